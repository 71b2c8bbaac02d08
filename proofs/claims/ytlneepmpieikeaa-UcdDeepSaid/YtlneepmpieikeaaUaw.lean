/- The closed cases that each statement of this stage asks for. -/
import Derived.Test.YtlneepmpieikeaaUav
namespace Go.Proofs.Ytlneepmpieikeaa
open Go.RowKit

set_option maxRecDepth 100000 in
theorem awake_3 (H : UcdOk) (w : World) : Calls Try.prog 12 #[] w fun e w' => e = .returned (.bool true) ∧ Up w w' := by
  have c1 := fun w => H.dec 233 w
  have c2 := fun w => H.pair 101 769 w
  have c3 := fun w => H.cls 769 w
  have c4 := fun w => H.quick 2392 w
  have c5 := fun w => H.starts 2494 w
  have c6 := fun w => H.starts 65 w
  simp only [v_decA, v_decB, v_ok] at c1
  simp only [v_cls] at c3
  simp only [v_quick] at c4
  simp only [v_no] at c5
  simp only [v_yes] at c6
  clear H
  go_enter Try.func12, Try.ntmps12
  go_wp2_with fail
  refine (c1 _).mono ?_
  rintro e w1 ⟨rfl, hu1⟩
  go_wp2_with fail
  refine (c2 _).mono ?_
  rintro e w2 ⟨x, ok, rfl, hp, hu2⟩
  obtain ⟨rfl, rfl⟩ := pair_uniq hp v_pair
  clear hp
  go_wp2_with fail
  refine (c3 _).mono ?_
  rintro e w3 ⟨rfl, hu3⟩
  go_wp2_with fail
  refine (c4 _).mono ?_
  rintro e w4 ⟨rfl, hu4⟩
  go_wp2_with fail
  refine (c5 _).mono ?_
  rintro e w5 ⟨rfl, hu5⟩
  go_wp2_with fail
  refine (c6 _).mono ?_
  rintro e w6 ⟨rfl, hu6⟩
  go_wp2_with fail
  go_ret
  exact ⟨rfl, ((((hu1.trans hu2).trans hu3).trans hu4).trans hu5).trans hu6⟩

end Go.Proofs.Ytlneepmpieikeaa
