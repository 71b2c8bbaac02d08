/- Orv: one text of Orw Orx Orc. -/
import Derived.Test.YtnmcdiiiikbkaaaDoorOrd
import Derived.Test.YtnmcdiiiikbkaaaDoorUnl
import Derived.Test.YtnmcdiiiikbkaaaDoorBas
import Derived.Test.YtnmcdiiiikbkaaaDoorUpo

/- The document's order: what its functions answer. -/
namespace Go.Proofs.YtnmcdiiiikbkaaaDoor
open Go.RowKit Go.Proofs.YtnmcdiiiikbkaaaDoor.Ordr

/-- One step of the document's insertion, on what is kept with the last one first. -/
theorem kept_take (cls : Nat → Nat) {l : List Nat} {i : Nat} (h : i < l.length) : kept cls (l.take (i + 1)) [] = ins cls l[i] (kept cls (l.take i) []) := by
  rw [List.take_succ_eq_append_getElem h, kept_app]; rfl
theorem kept_len (cls : Nat → Nat) (l : List Nat) : (kept cls l []).length = l.length := by
  have := ord_len cls l
  unfold ord at this
  rwa [List.length_reverse] at this

/-- Two neighbours change places. -/
theorem swap_us {w : World} {base g n d : Nat} {P Q : List Nat} {y x : Nat} (h : w.ownsRow base 22 1 (.slice (some ⟨g, 0, none⟩) n d) n (us (P ++ y :: x :: Q))) :
    ((w.setCell ⟨g, P.length, none⟩ (.int .u32 (x : Int))).setCell ⟨g, P.length + 1, none⟩ (.int .u32 (y : Int))).ownsRow base 22 1 (.slice (some ⟨g, 0, none⟩) n d) n (us (P ++ x :: y :: Q)) := by
  have h1 := (h.stored P.length (.int .u32 (x : Int))).1
  rw [us_set _ _ _ (by omega)] at h1
  have h2 := (h1.stored (P.length + 1) (.int .u32 (y : Int))).1
  rw [us_set _ _ _ (by omega)] at h2
  have e : ((P ++ y :: x :: Q).set P.length (x : Int).toNat).set (P.length + 1) (y : Int).toNat = P ++ x :: y :: Q := by
    rw [List.set_append_right _ _ (Nat.le_refl _), Nat.sub_self, List.set_cons_zero, List.set_append_right _ _ (by omega), show P.length + 1 - P.length = 1 from by omega]
    simp
  rwa [e] at h2

/-- Two neighbours: what is read, what may be written. -/
theorem neigh {w : World} {base g n d : Nat} {P Q : List Nat} {y x : Nat} (h : w.ownsRow base 22 1 (.slice (some ⟨g, 0, none⟩) n d) n (us (P ++ y :: x :: Q))) {q : Nat} (hq : P.length = q) :
    q + 1 < n ∧ w.cell? ⟨g, q, none⟩ = some (.int .u32 (y : Int)) ∧ w.cell? ⟨g, q + 1, none⟩ = some (.int .u32 (x : Int)) ∧ w.frozen? ⟨g, q, none⟩ = false ∧ w.frozen? ⟨g, q + 1, none⟩ = false := by
  refine ⟨?_, own_mid h hq, ?_, h.frozenAt q, h.frozenAt (q + 1)⟩
  · have := h.1
    rw [us_len] at this
    simp at this
    omega
  · rw [show P ++ y :: x :: Q = (P ++ [y]) ++ x :: Q from by simp] at h
    exact own_mid h (by simp [hq])

/-- Between two rounds of the inner loop: x stands behind rest, ahead of those that it has passed. -/
structure InsAt (cls : Nat → Nat) (x : Nat) (K : List Nat) (pass rest : List Nat) : Prop where
  eq : K = pass ++ rest
  go : ins cls x K = pass ++ ins cls x rest
theorem InsAt.next {cls : Nat → Nat} {x y : Nat} {K pass rest : List Nat} (h : InsAt cls x K pass (y :: rest)) (h0 : cls x ≠ 0) (h1 : cls x < cls y) : InsAt cls x K (pass ++ [y]) rest :=
  ⟨by rw [h.eq]; simp, by rw [h.go, ins_go cls rest h0 h1]; simp⟩
theorem InsAt.done {cls : Nat → Nat} {x : Nat} {K pass rest : List Nat} (h : InsAt cls x K pass rest) (hd : cls x = 0 ∨ rest = [] ∨ ∃ y t, rest = y :: t ∧ cls y ≤ cls x) : ins cls x K = pass ++ x :: rest := by
  rw [h.go]
  rcases hd with h0 | rfl | ⟨y, t, rfl, hy⟩
  · rw [ins_zero cls h0]
  · rfl
  · rw [ins_sit cls t (by omega)]

end Go.Proofs.YtnmcdiiiikbkaaaDoor

/- The document's Is; what is asked of the program's order. -/
namespace Go.Proofs.YtnmcdiiiikbkaaaDoor
open Go.RowKit Go.Proofs.YtnmcdiiiikbkaaaDoor.Ordr

/-- What the program's functions answer. -/
structure OrderOk : Prop where
  order : ∀ (A : Option Addr) (n d : Nat) (l : List Nat) (w : World), Rd w A d (us l) → n = l.length → n ≤ 100000 → (∀ c ∈ l, c < 4294967296) → Calls Tryd.prog 24 #[.slice A n d] w (Gives (ord clsOf l) w)
  is : ∀ (A : Option Addr) (n d : Nat) (l : List Nat) (w : World), Rd w A d (us l) → n = l.length → n ≤ 100000 → (∀ c ∈ l, c < 4294967296) → Calls Tryd.prog 23 #[.slice A n d] w fun e w' => e = .returned (.bool (ordB clsOf l)) ∧ Up w w'
  classes : ∀ (A : Option Addr) (n d : Nat) (l : List Nat) (w : World), Rd w A d (us l) → n = l.length → n ≤ 100000 → (∀ c ∈ l, c < 4294967296) → Calls Tryd.prog 40 #[.slice A n d] w (GivesK (l.map clsOf) w)

end Go.Proofs.YtnmcdiiiikbkaaaDoor

/- The closed cases of stage 6. -/
namespace Go.Proofs.YtnmcdiiiikbkaaaDoor
open Go.RowKit Go.Proofs.YtnmcdiiiikbkaaaDoor.Ordr

theorem k_cls7 : key clsS.data.toList 12 7 = 803 := by kernel_rfl
theorem k_cls8 : key clsS.data.toList 12 8 = 807 := by kernel_rfl
theorem k_cls7b : fld clsS.data.toList 12 7 5 5 = 806 := by kernel_rfl
theorem k_cls7c : fld clsS.data.toList 12 7 10 2 = 220 := by kernel_rfl
theorem v_803 : clsOf 803 = 220 := (cls_of (i := 7) (by decide) (leq k_cls7 (by decide)) (geq k_cls8 (by decide)) (geq k_cls7b (by decide))).trans k_cls7c
theorem v_small {c : Nat} (h : c < 768) : clsOf c = 0 := cls_none (Nat.lt_of_lt_of_le h (geq k_cls0 (Nat.le_refl _)))
theorem ord_case (cls : Nat → Nat) (h1 : cls 97 = 0) (h2 : cls 769 = 230) (h3 : cls 803 = 220) (h4 : cls 65 = 0) :
    ord cls [97, 769, 803] = [97, 803, 769] ∧ ordB cls [803, 65, 769] = true ∧ ordB cls [769, 803] = false := by
  refine ⟨?_, ?_, ?_⟩
  · simp [ord, kept, ins, h1, h2, h3]
  · simp [ordB, upB, h2, h3, h4]
  · simp [ordB, upB, h2, h3]

set_option maxRecDepth 100000 in
theorem awake_6 (H : OrderOk) (w : World) : Calls Tryd.prog 25 #[] w fun e w' => e = .returned (.bool true) ∧ Up w w' := by
  obtain ⟨e1, e2, e3⟩ := ord_case clsOf (v_small (by decide)) v_cls v_803 (v_small (by decide))
  have c1 := Lib.hid (H.order (some ⟨w.heap.size, 0, none⟩) 3 3 [97, 769, 803] _ (own_read (own_lit w [97, 769, 803] 3 rfl (by omega))) rfl (by omega) (by decide))
  have c2 := Lib.hid (fun w => H.is (some ⟨w.heap.size, 0, none⟩) 3 3 [803, 65, 769] _ (own_read (own_lit w [803, 65, 769] 3 rfl (by omega))) rfl (by omega) (by decide))
  have c3 := Lib.hid (fun w => H.is (some ⟨w.heap.size, 0, none⟩) 2 2 [769, 803] _ (own_read (own_lit w [769, 803] 2 rfl (by omega))) rfl (by omega) (by decide))
  rw [e1] at c1
  rw [e2] at c2
  rw [e3] at c3
  clear H e1 e2 e3
  go_enter Tryd.func25, Tryd.ntmps25
  go_wp2_with fail
  refine c1.out.mono ?_
  rintro e w1 ⟨A, d, rfl, hO, hu⟩
  have hr1 := own_read (own_up hO ((Up.refl w1).alloc (.cells #[.int .u32 97, .int .u32 803, .int .u32 769] 22)))
  have hr2 := own_read (own_lit w1 [97, 803, 769] 3 rfl (by omega))
  have HS := Lib.hid (same_gen A (some ⟨w1.heap.size, 0, none⟩) d 3 3 3 [97, 803, 769] [97, 803, 769] _ hr1 hr2 rfl rfl)
  clear hr1 hr2 hO
  go_wp2_with fail
  refine HS.out.mono ?_
  rintro e w2 ⟨rfl, hu2⟩
  have hu3 := (((Up.refl w).alloc _).trans hu).trans (((Up.refl w1).alloc _).trans hu2)
  clear hu hu2 HS c1
  have C2 := c2.out w2
  go_wp2_with fail
  refine C2.mono ?_
  rintro e w3 ⟨rfl, hu4⟩
  have C3 := c3.out w3
  have hu5 := hu3.trans (((Up.refl w2).alloc _).trans hu4)
  clear C2 c2
  go_wp2_with fail
  refine C3.mono ?_
  rintro e w4 ⟨rfl, hu6⟩
  go_wp2_with fail
  go_ret
  exact ⟨rfl, hu5.trans (((Up.refl w3).alloc _).trans hu6)⟩

end Go.Proofs.YtnmcdiiiikbkaaaDoor
