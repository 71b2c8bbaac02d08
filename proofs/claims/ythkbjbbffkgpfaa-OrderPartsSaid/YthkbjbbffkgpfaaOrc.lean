/- The closed cases of stage 6. -/
import Derived.Test.YthkbjbbffkgpfaaOrx
import Derived.Test.YthkbjbbffkgpfaaUav
namespace Go.Proofs.Ythkbjbbffkgpfaa
open Go.RowKit Go.Proofs.Ythkbjbbffkgpfaa.Ordr

theorem k_cls7 : key clsS.data.toList 12 7 = 803 := by kernel_rfl
theorem k_cls8 : key clsS.data.toList 12 8 = 807 := by kernel_rfl
theorem k_cls7b : fld clsS.data.toList 12 7 5 5 = 806 := by kernel_rfl
theorem k_cls7c : fld clsS.data.toList 12 7 10 2 = 220 := by kernel_rfl
theorem v_803 : clsOf 803 = 220 := (cls_of (i := 7) (by decide) (leq k_cls7 (by decide)) (geq k_cls8 (by decide)) (geq k_cls7b (by decide))).trans k_cls7c
theorem v_small {c : Nat} (h : c < 768) : clsOf c = 0 := cls_none (Nat.lt_of_lt_of_le h (geq k_cls0 (Nat.le_refl _)))
theorem ord_case (cls : Nat → Nat) (h1 : cls 97 = 0) (h2 : cls 769 = 230) (h3 : cls 803 = 220) (h4 : cls 65 = 0) :
    ord cls [97, 769, 803] = [97, 803, 769] ∧ ordB cls [803, 65, 769] = true ∧ ordB cls [769, 803] = false := by
  refine ⟨?_, ?_, ?_⟩
  · simp [ord, kept, ins, h1, h2, h3]
  · simp [ordB, upB, h2, h3, h4]
  · simp [ordB, upB, h2, h3]

set_option maxRecDepth 100000 in
theorem awake_6 (H : OrderOk) (w : World) : Calls Try.prog 8 #[] w fun e w' => e = .returned (.bool true) ∧ Up w w' := by
  obtain ⟨e1, e2, e3⟩ := ord_case clsOf (v_small (by decide)) v_cls v_803 (v_small (by decide))
  have c1 := Lib.hid (H.order (some ⟨w.heap.size, 0, none⟩) 3 3 [97, 769, 803] _ (own_read (own_lit w [97, 769, 803] 3 rfl (by omega))) rfl (by omega) (by decide))
  have c2 := Lib.hid (fun w => H.is (some ⟨w.heap.size, 0, none⟩) 3 3 [803, 65, 769] _ (own_read (own_lit w [803, 65, 769] 3 rfl (by omega))) rfl (by omega) (by decide))
  have c3 := Lib.hid (fun w => H.is (some ⟨w.heap.size, 0, none⟩) 2 2 [769, 803] _ (own_read (own_lit w [769, 803] 2 rfl (by omega))) rfl (by omega) (by decide))
  rw [e1] at c1
  rw [e2] at c2
  rw [e3] at c3
  clear H e1 e2 e3
  go_enter Try.func8, Try.ntmps8
  go_wp2_with fail
  refine c1.out.mono ?_
  rintro e w1 ⟨A, d, rfl, hO, hu⟩
  have hr1 := own_read (own_up hO ((Up.refl w1).alloc (.cells #[.int .u32 97, .int .u32 803, .int .u32 769] 26)))
  have hr2 := own_read (own_lit w1 [97, 803, 769] 3 rfl (by omega))
  have HS := Lib.hid (same_gen A (some ⟨w1.heap.size, 0, none⟩) d 3 3 3 [97, 803, 769] [97, 803, 769] _ hr1 hr2 rfl rfl)
  clear hr1 hr2 hO
  go_wp2_with fail
  refine HS.out.mono ?_
  rintro e w2 ⟨rfl, hu2⟩
  have hu3 := (((Up.refl w).alloc _).trans hu).trans (((Up.refl w1).alloc _).trans hu2)
  clear hu hu2 HS c1
  have C2 := c2.out w2
  go_wp2_with fail
  refine C2.mono ?_
  rintro e w3 ⟨rfl, hu4⟩
  have C3 := c3.out w3
  have hu5 := hu3.trans (((Up.refl w2).alloc _).trans hu4)
  clear C2 c2
  go_wp2_with fail
  refine C3.mono ?_
  rintro e w4 ⟨rfl, hu6⟩
  go_wp2_with fail
  go_ret
  exact ⟨rfl, hu5.trans (((Up.refl w3).alloc _).trans hu6)⟩

end Go.Proofs.Ythkbjbbffkgpfaa
