/- The closed case that each statement asks for. -/
import Derived.Test.YtnokgeobaaahiaaFault
namespace Go.Proofs.Ytnokgeobaaahiaa
open Go.RowKit

set_option maxRecDepth 100000 in
theorem awake_1 (w : World) : Calls Try.prog 16 #[] w fun e w' => e = .returned (.bool true) ∧ Up w w' := by
  have r1 : Rd (w.alloc (.cells #[.int .u8 195, .int .u8 169, .int .u8 65] 5)) (some ⟨w.heap.size, 0, none⟩) 3 (bs [195, 169, 65]) := Rd.new w _ _ rfl rfl (by unfold maxLen; omega)
  have c1 := one_code _ _ 3 _ _ r1 rfl
  have e1 : U.one [195, 169, 65] = (233, 2) := by decide
  rw [e1] at c1
  clear e1
  go_enter Try.func16, Try.ntmps16
  go_wp2_with fail
  refine c1.mono ?_
  rintro e w1 ⟨rfl, hu1⟩
  have r2 : Rd (w1.alloc (.cells #[.int .u8 65, .int .u8 195] 5)) (some ⟨w1.heap.size, 0, none⟩) 2 (bs [65, 195]) := Rd.new w1 _ _ rfl rfl (by unfold maxLen; omega)
  have c2 := fault_code _ _ 2 _ _ r2 rfl
  have e2 : U.fault [65, 195] = 1 := by decide
  rw [e2] at c2
  clear e2 r2 r1 c1
  go_wp2_with fail
  refine c2.mono ?_
  rintro e w2 ⟨rfl, hu2⟩
  go_wp2_with fail
  refine (width_code _ _).mono ?_
  rintro e w3 ⟨rfl, rfl⟩
  have hw : widthI 8364 = 3 := by decide
  go_wp2_with fail
  go_ret
  exact ⟨rfl, (((Up.refl w).alloc _).trans hu1).trans (((Up.refl w1).alloc _).trans hu2)⟩

end Go.Proofs.Ytnokgeobaaahiaa
