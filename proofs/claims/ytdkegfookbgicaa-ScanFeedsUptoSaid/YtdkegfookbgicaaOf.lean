/- The document's state behind all bytes. -/
import Derived.Test.YtdkegfookbgicaaRop
import Derived.Test.YtdkegfookbgicaaSt
import Derived.Test.YtdkegfookbgicaaScm
namespace Go.Proofs.Ytdkegfookbgicaa
open Go.RowKit

theorem obj_set3 {w : World} {g : Nat} {x y z : Value} {t : TypeId} (h : w.heap[g]? = some (.cells #[x, y, z] t (0, 0))) (a b c : Value) :
    (((w.setCell ⟨g, 0, none⟩ a).setCell ⟨g, 1, none⟩ b).setCell ⟨g, 2, none⟩ c).heap[g]? = some (.cells #[a, b, c] t (0, 0)) :=
  obj_set (obj_set (obj_set h 0 a) 1 b) 2 c
theorem fr_set3 (w : World) (g : Nat) (a b c : Value) : Fr g g w (((w.setCell ⟨g, 0, none⟩ a).setCell ⟨g, 1, none⟩ b).setCell ⟨g, 2, none⟩ c) :=
  (((Fr.refl g g w).setCell (p := ⟨g, 0, none⟩) (.inl rfl) a).setCell (p := ⟨g, 1, none⟩) (.inl rfl) b).setCell (p := ⟨g, 2, none⟩) (.inl rfl) c
theorem infoT : (Try.prog.info? 29).map (·.size) = some 3 := by kernel_rfl

/-- A state as a value. -/
def agg (s : U.St) (A : Option Addr) (c : Nat) : Value := .agg #[.int .i64 s.seen, .int .i64 s.bad, .slice A s.pend.length c]

set_option maxRecDepth 100000 in
theorem of_none (A : Option Addr) (c n : Nat) (l : List UInt8) (w : World) (h : Rd w A c (bs l)) (hn : n = l.length) (hb : n ≤ 1099511627780) (hf : U.fault l < 0) :
    Calls Try.prog 30 #[.slice A n c] w fun e w' => ∃ A' c', e = .returned (agg (U.St.of l) A' c') ∧ Rd w' A' c' (bs (U.St.of l).pend) ∧ (∀ a, A' = some a → w.heap.size ≤ a.block) ∧ Up w w' := by
  have hfa := fault_ref A c n l (w.alloc (.cells #[.int .i64 0, .int .i64 0, .slice none 0 0] 29)) (h.up ((Up.refl w).alloc _)) hn
  have hr : U.fault l = -1 := by have := U.fault_ge l; omega
  have hs := U.St.of_right hr
  rw [← hn] at hs
  rw [hs]
  rw [hr] at hfa
  clear hs hr hf h hn
  unfold agg
  have ho0 := heap_alloc_new w (.cells #[.int .i64 0, .int .i64 0, .slice none 0 0] 29)
  have hu0 := (Up.refl w).alloc (.cells #[.int .i64 0, .int .i64 0, .slice none 0 0] 29)
  go_enter Try.func30, Try.ntmps30
  go_wp2_with fail
  refine hfa.mono ?_
  rintro e w1 ⟨rfl, hu1⟩
  have ho := obj_up ho0 hu1
  have hu := hu0.trans hu1
  have hlt := obj_lt ho
  have c0 := obj_cell ho 0
  have c1 := obj_cell ho 1
  have c2 := obj_cell ho 2
  simp only [List.getElem?_toArray, List.getElem?_cons_zero, List.getElem?_cons_succ] at c0 c1 c2
  have f0 := obj_frozen ho 0
  have f1 := obj_frozen ho 1
  have f2 := obj_frozen ho 2
  have HO := Lib.hid ho
  clear ho ho0 hfa hu0 hu1
  go_wp2_with fail
  refine ret_cell rfl rfl (obj_up (obj_set3 HO.out _ _ _) ((Up.refl _).alloc _)) Try.underlying29 rfl infoT rfl ⟨none, 0, rfl, Rd.empty _, (fun a ha => by cases ha), (hu.fr (fr_set3 w1 w.heap.size _ _ _) (Nat.le_refl _) (Nat.le_refl _)).alloc _⟩

set_option maxRecDepth 100000 in
set_option maxHeartbeats 800000 in
theorem of_some (d : Bool) (A : Option Addr) (c n k : Nat) (l : List UInt8) (w : World) (h : Rd w A c (bs l)) (Hn : Hid (n = l.length)) (hb : n ≤ 1099511627780) (hkn : k ≤ n) (Hf : Hid (U.fault l = k)) (Hd : Hid (decide (U.opn (l.drop k)) = d)) (s : U.St) (Hs : Hid (U.St.of l = s))
    (A1 : Option Addr) (hsl : ∀ w', (Instr.slice 22 (.slice A n c) (some (.int .i64 k)) none none).run Try.prog w' = .ok (.slice A1 (n - k) (c - k)) w') (hr1 : Rd w A1 (c - k) (bs (l.drop k))) (hdt : Hid (s = if d = true then ⟨n, -1, l.drop k⟩ else ⟨n, k, []⟩)) :
    Calls Try.prog 30 #[.slice A n c] w fun e w' => ∃ A' c', e = .returned (agg s A' c') ∧ Rd w' A' c' (bs s.pend) ∧ (∀ a, A' = some a → w.heap.size ≤ a.block) ∧ Up w w' := by
  have ho0 := heap_alloc_new w (.cells #[.int .i64 0, .int .i64 0, .slice none 0 0] 29)
  have hu0 := (Up.refl w).alloc (.cells #[.int .i64 0, .int .i64 0, .slice none 0 0] 29)
  have hfa := fault_ref A c n l (w.alloc (.cells #[.int .i64 0, .int .i64 0, .slice none 0 0] 29)) (h.up hu0) Hn.out
  rw [Hf.out] at hfa
  have Hlk := Lib.hid (show n - k = (l.drop k).length by rw [List.length_drop, Hn.out])
  have HR1 := Lib.hid hr1
  clear hr1 h
  go_enter Try.func30, Try.ntmps30
  go_wp2_with fail
  refine hfa.mono ?_
  rintro e w1 ⟨rfl, hu1⟩
  have ho := obj_up ho0 hu1
  have hu := hu0.trans hu1
  have ho4 := heap_alloc_new w1 (.cells #[.int .i64 (n : Int), .int .i64 (k : Int), .slice none 0 0] 29)
  have hu4 := (Up.refl w1).alloc (.cells #[.int .i64 (n : Int), .int .i64 (k : Int), .slice none 0 0] 29)
  have hlt := obj_lt ho
  have ho2 := obj_up ho hu4
  have hop := ropen_ref A1 (c - k) (n - k) (l.drop k) _ (HR1.out.up (hu.trans hu4)) Hlk.out
  rw [Hd.out] at hop
  clear hfa ho ho0 hu0 hu1
  go_wp2_with fail
  refine hop.mono ?_
  rintro e w2 ⟨rfl, hu2⟩
  have hu24 := hu4.trans hu2
  have huw := hu.trans hu24
  have ho22 := obj_up ho2 hu2
  have ho42 := obj_up ho4 hu2
  have hl42 := obj_lt ho42
  clear hop ho4 ho2 hu4 hu2 hu24
  cases d with
  | true =>
    obtain ⟨A3, c3, w3, hrun, hrd3, hu3, hown3⟩ := elB.copy w2 22 (m := n - k) (HR1.out.up huw) (by rw [bs_len]; exact Hlk.out) (one_bs _) (by omega) (by decide)
    have Q := Lib.hid hrun
    have o2 := obj_up ho22 hu3
    have o4 := obj_up ho42 hu3
    have c0 := obj_cell o2 0
    have c1 := obj_cell o2 1
    have c2 := obj_cell o2 2
    have d0 := obj_cell o4 0
    have d1 := obj_cell o4 1
    have d2 := obj_cell o4 2
    simp only [List.getElem?_toArray, List.getElem?_cons_zero, List.getElem?_cons_succ] at c0 c1 c2 d0 d1 d2
    have f0 := obj_frozen o2 0
    have f1 := obj_frozen o2 1
    have f2 := obj_frozen o2 2
    have g0 := obj_frozen o4 0
    have g1 := obj_frozen o4 1
    have g2 := obj_frozen o4 2
    have O2 := Lib.hid o2
    have hs : s = ⟨n, -1, l.drop k⟩ := by rw [hdt.out, if_pos rfl]
    subst hs
    clear o2 o4 ho22 ho42 hrun
    go_wp2_with (at_builtin; refine wpList_app rfl _ _ _ rfl rfl rfl Q.out ?_)
    have hO := obj_set3 (obj_fr O2.out (((Fr.refl w1.heap.size w1.heap.size w3).setCell (p := ⟨w1.heap.size, 1, none⟩) (.inl rfl) (.int .i64 (-1))).setCell (p := ⟨w1.heap.size, 2, none⟩) (.inl rfl) (.slice A3 (n - k) c3)) (by omega) (by omega)) (.int .i64 (n : Int)) (.int .i64 (-1)) (.slice A3 (n - k) c3)
    have hf1 := ((Fr.refl w1.heap.size w1.heap.size w3).setCell (p := ⟨w1.heap.size, 1, none⟩) (.inl rfl) (.int .i64 (-1))).setCell (p := ⟨w1.heap.size, 2, none⟩) (.inl rfl) (.slice A3 (n - k) c3)
    have hf2 := fr_set3 ((w3.setCell ⟨w1.heap.size, 1, none⟩ (.int .i64 (-1))).setCell ⟨w1.heap.size, 2, none⟩ (.slice A3 (n - k) c3)) w.heap.size (.int .i64 (n : Int)) (.int .i64 (-1)) (.slice A3 (n - k) c3)
    have hA3 : ∀ a, A3 = some a → w2.heap.size ≤ a.block := fun a ha => by subst ha; exact (World.ownsRow.lt hown3 a.block rfl).1
    refine ret_cell rfl rfl hO Try.underlying29 rfl infoT rfl ⟨A3, c3, by unfold agg; rw [← Hlk.out], ?_, (fun a ha => Nat.le_trans huw.size (hA3 a ha)), ?_⟩
    · exact (hrd3.fr hf1 (fun _ a ha => by have := hA3 a ha; omega)).fr hf2 (fun _ a ha => by have := hA3 a ha; omega)
    · exact ((huw.trans hu3).fr hf1 (Nat.le_of_lt hlt) (Nat.le_of_lt hlt)).fr hf2 (Nat.le_refl _) (Nat.le_refl _)
  | false =>
    have c0 := obj_cell ho22 0
    have c1 := obj_cell ho22 1
    have c2 := obj_cell ho22 2
    have d0 := obj_cell ho42 0
    have d1 := obj_cell ho42 1
    have d2 := obj_cell ho42 2
    simp only [List.getElem?_toArray, List.getElem?_cons_zero, List.getElem?_cons_succ] at c0 c1 c2 d0 d1 d2
    have f0 := obj_frozen ho22 0
    have f1 := obj_frozen ho22 1
    have f2 := obj_frozen ho22 2
    have O2 := Lib.hid ho22
    have hs : s = ⟨n, k, []⟩ := by rw [hdt.out, if_neg (by decide)]
    subst hs
    clear ho22 ho42
    go_wp2_with fail
    refine ret_cell rfl rfl (obj_set3 O2.out _ _ _) Try.underlying29 rfl infoT rfl ⟨none, 0, rfl, Rd.empty _, (fun a ha => by cases ha), huw.fr (fr_set3 w2 w.heap.size _ _ _) (Nat.le_refl _) (Nat.le_refl _)⟩

theorem of_ref (A : Option Addr) (c n : Nat) (l : List UInt8) (w : World) (h : Rd w A c (bs l)) (hn : n = l.length) (hb : n ≤ 1099511627780) :
    Calls Try.prog 30 #[.slice A n c] w fun e w' => ∃ A' c', e = .returned (agg (U.St.of l) A' c') ∧ Rd w' A' c' (bs (U.St.of l).pend) ∧ (∀ a, A' = some a → w.heap.size ≤ a.block) ∧ Up w w' := by
  by_cases hf : U.fault l < 0
  · exact of_none A c n l w h hn hb hf
  · obtain ⟨cs, _, hl, hc, _, _⟩ := U.fault_cut (l := l) (by omega)
    obtain ⟨k, hk⟩ : ∃ k : Nat, U.fault l = k := ⟨(U.encs cs).length, hc.symm⟩
    have hkn : k ≤ n := by have := (U.fault_ge l).2; omega
    obtain ⟨A1, hsl, hr1⟩ := h.tail n k hn hkn
    have e : (U.fault l).toNat = k := by rw [hk]; rfl
    refine of_some (decide (U.opn (l.drop k))) A c n k l w h (Lib.hid hn) hb hkn (Lib.hid hk) (Lib.hid rfl) _ (Lib.hid rfl) A1 hsl hr1 (Lib.hid ?_)
    unfold U.St.of
    rw [if_pos (by omega), e, hk, ← hn]
    by_cases ho : U.opn (l.drop k)
    · rw [if_pos ho, if_pos (by simpa using ho)]
    · rw [if_neg ho, if_neg (by simpa using ho)]

end Go.Proofs.Ytdkegfookbgicaa
