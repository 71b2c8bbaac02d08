/- The statement CodeJoins: the walk. -/
import Derived.Test.YtnokgeobaaahiaaAwake
import Derived.Test.YtnokgeobaaahiaaApp
import Derived.Test.YtnokgeobaaahiaaUtg
namespace Go.Proofs.Ytnokgeobaaahiaa
open Go.RowKit

/-- A copy of two, one behind the other. -/
theorem El.copy2 {T E : TypeId} {b : Nat} (h : El T E b) (w : World) (ty : TypeId) {A B : Option Addr} {m c n d : Nat} {xs ys : List Value} (hr : Rd w A c xs) (hm : m = xs.length) (h1 : ∀ u ∈ xs, u.oneCell' = true)
    (hs : Rd w B d ys) (hn : n = ys.length) (h2 : ∀ u ∈ ys, u.oneCell' = true) (hb : (m + n) * b ≤ 140737488355328) (hb0 : 0 < b) :
    ∃ A1 c1 w1 A2 c2 w2, (Builtin.append_ #[T, T] ty #[.slice (some ⟨w.heap.size, 0, none⟩) 0 0, .slice A m c]).run Try.prog (w.alloc (.cells #[] E)) = .ok (.slice A1 m c1) w1 ∧
      (Builtin.append_ #[T, T] ty #[.slice A1 m c1, .slice B n d]).run Try.prog w1 = .ok (.slice A2 (m + n) c2) w2 ∧ Rd w2 A2 c2 (xs ++ ys) ∧ Up w w2 := by
  obtain ⟨A1, c1, w1, hrun, _, hu, hown⟩ := h.copy w ty hr hm h1 (Nat.le_trans (Nat.mul_le_mul_right _ (Nat.le_add_right _ _)) hb) hb0
  obtain ⟨v', w2, hrun2, hown2, hg, _⟩ := h.app w1 ty hown (hs.up hu) hn h2 hb hb0 hu.size
  obtain ⟨A2, c2, rfl, hrd⟩ := own_rd hown2
  exact ⟨A1, c1, w1, A2, c2, w2, hrun, hrun2, hrd, Below.grown hu hg hu.size (fun k hk => (hown.lt k hk).1)⟩

set_option maxRecDepth 100000 in
set_option maxHeartbeats 800000 in
theorem joins_walk (w : World) (A : Option Addr) (n c : Nat) (l : List UInt8) (hn : l.length = n) (h : Rd w A c (bs l)) (_hb : c * 1 ≤ 140737488351232) (hu : c ≤ 1048576)
    (B : Option Addr) (m d : Nat) (k : List UInt8) (hm : k.length = m) (hk : Rd w B d (bs k)) (_hb2 : d * 1 ≤ 140737488351232) (hu2 : d ≤ 1048576) :
    Calls Try.prog 8 #[.slice A n c, .slice B m d] w fun e w' => e = .returned (.bool true) ∧ Up w w' := by
  have hf := h.fit
  rw [bs_len] at hf
  have hf2 := hk.fit
  rw [bs_len] at hf2
  have hmn : n ≤ 1048576 := by omega
  have hmm : m ≤ 1048576 := by omega
  have c1 := fault_code A c n l w h hn.symm
  have Hn := Lib.hid hn
  have Hm := Lib.hid hm
  have H := Lib.hid h
  have HK := Lib.hid hk
  have g1 := U.fault_ge l
  have g2 := U.fault_ge k
  have g3 := U.fault_ge (l ++ k)
  rw [List.length_append, hn, hm] at g3
  rw [hn] at g1
  rw [hm] at g2
  obtain ⟨j1, j2, j3⟩ := U.fault_append l k
  rw [hn] at j2
  have hl : l.length + k.length = n + m := by omega
  have HL := Lib.hid hl
  clear hn hm h hk hf hf2 hl
  go_enter Try.func8, Try.ntmps8
  go_wp2_with fail
  refine c1.mono ?_
  rintro e w1 ⟨rfl, hu1⟩
  go_wp2_with fail
  refine (fault_code _ _ m k _ (HK.out.up hu1) Hm.out.symm).mono ?_
  rintro e w2 ⟨rfl, hu2⟩
  obtain ⟨A1, d1, w3, A2, d2, w4, hr1, hr2, hrd, hu4⟩ := elB.copy2 (m := n) (n := m) w2 23 (H.out.up (hu1.trans hu2)) (by rw [bs_len]; exact Hn.out.symm) (one_bs l) (HK.out.up (hu1.trans hu2)) (by rw [bs_len]; exact Hm.out.symm) (one_bs k) (by omega) (by omega)
  rw [← bs_append] at hrd
  have R1 := Lib.hid hr1
  have R2 := Lib.hid hr2
  have HR := Lib.hid hrd
  clear hr1 hr2 hrd c1
  have tok : True := trivial
  go_wp2_with (first | (at_builtin; have _t := tok; refine wpList_app rfl _ _ _ rfl rfl rfl R1.out ?_; clear tok) | (at_builtin; refine wpList_app rfl _ _ _ rfl rfl rfl R2.out ?_))
  refine (fault_code _ _ (n + m) (l ++ k) _ HR.out (by rw [List.length_append, HL.out])).mono ?_
  rintro e w5 ⟨rfl, hu5⟩
  generalize U.fault l = x at *
  generalize U.fault k = y at *
  generalize U.fault (l ++ k) = z at *
  have HJ := Lib.hid (And.intro j1 (And.intro j2 j3))
  clear j1 j2 j3
  go_wp2_with fail
  all_goals first
    | (exfalso; have := HJ.out; omega)
    | (refine (awake_1 _).mono ?_
       rintro e w6 ⟨rfl, hu6⟩
       go_wp2_with fail
       go_ret
       refine ⟨?_, (((hu1.trans hu2).trans hu4).trans hu5).trans hu6⟩
       first | rfl | exact ret_bool (by simp; have := HJ.out; omega))

end Go.Proofs.Ytnokgeobaaahiaa
