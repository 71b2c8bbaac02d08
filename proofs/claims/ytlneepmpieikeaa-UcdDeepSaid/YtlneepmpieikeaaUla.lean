/- The statements UcdClasses, UcdDecomps, UcdPairs, UcdQuicks: the walks. -/
import Derived.Test.YtlneepmpieikeaaUaw
namespace Go.Proofs.Ytlneepmpieikeaa
open Go.RowKit

set_option maxRecDepth 100000 in
theorem classes_of (H : UcdOk) (c : Nat) (w : World) : Calls Try.prog 3 #[.int .u32 (c : Int)] w fun e w' => e = .returned (.bool true) ∧ Up w w' := by
  have c1 := fun w => H.cls c w
  have c2 := fun w => class_ref c w
  have c3 := fun w => awake_3 H w
  clear H
  generalize clsOf c = x at *
  go_enter Try.func3, Try.ntmps3
  go_wp2_with fail
  refine (c1 _).mono ?_
  rintro e w1 ⟨rfl, hu1⟩
  go_wp2_with fail
  refine (c2 _).mono ?_
  rintro e w2 ⟨rfl, hu2⟩
  go_wp2_with fail
  refine (c3 _).mono ?_
  rintro e w3 ⟨rfl, hu3⟩
  go_wp2_with fail
  go_ret
  exact ⟨rfl, (hu1.trans hu2).trans hu3⟩

set_option maxRecDepth 100000 in
theorem decomps_of (H : UcdOk) (c : Nat) (w : World) : Calls Try.prog 4 #[.int .u32 (c : Int)] w fun e w' => e = .returned (.bool true) ∧ Up w w' := by
  have c1 := fun w => H.dec c w
  have c2 := fun w => decomp_ref c w
  have c3 := fun w => H.cmp c w
  have c4 := fun w => composes_ref c w
  have c5 := fun w => awake_3 H w
  clear H
  generalize decA c = x at *
  generalize decB c = y at *
  generalize decOk c = ok at *
  generalize cmpOf c = m at *
  have h1 : (ok == ok) = true := by simp
  have h2 : (m == m) = true := by simp
  go_enter Try.func4, Try.ntmps4
  go_wp2_with fail
  refine (c1 _).mono ?_
  rintro e w1 ⟨rfl, hu1⟩
  go_wp2_with fail
  refine (c2 _).mono ?_
  rintro e w2 ⟨rfl, hu2⟩
  go_wp2_with fail
  refine (c3 _).mono ?_
  rintro e w3 ⟨rfl, hu3⟩
  go_wp2_with fail
  refine (c4 _).mono ?_
  rintro e w4 ⟨rfl, hu4⟩
  go_wp2_with fail
  refine (c5 _).mono ?_
  rintro e w5 ⟨rfl, hu5⟩
  go_wp2_with fail
  go_ret
  exact ⟨rfl, (((hu1.trans hu2).trans hu3).trans hu4).trans hu5⟩

set_option maxRecDepth 100000 in
theorem pairs_of (H : UcdOk) (a b : Nat) (w : World) : Calls Try.prog 5 #[.int .u32 (a : Int), .int .u32 (b : Int)] w fun e w' => e = .returned (.bool true) ∧ Up w w' := by
  have c1 := fun w => H.pair a b w
  have c2 := fun w => pair_ref a b w
  have c3 := fun w => awake_3 H w
  clear H
  go_enter Try.func5, Try.ntmps5
  go_wp2_with fail
  refine (c1 _).mono ?_
  rintro e w1 ⟨x, ok, rfl, hp, hu1⟩
  go_wp2_with fail
  refine (c2 _).mono ?_
  rintro e w2 ⟨y, is, rfl, hq, hu2⟩
  obtain ⟨rfl, rfl⟩ := pair_uniq hp hq
  clear hp hq
  have h1 : (ok == ok) = true := by simp
  go_wp2_with fail
  refine (c3 _).mono ?_
  rintro e w3 ⟨rfl, hu3⟩
  go_wp2_with fail
  go_ret
  exact ⟨rfl, (hu1.trans hu2).trans hu3⟩

theorem quick_le (c : Nat) : quickOf c ≤ 2 := by
  unfold quickOf
  repeat' split
  all_goals omega
set_option maxRecDepth 100000 in
theorem quicks_of (H : UcdOk) (c : Nat) (w : World) : Calls Try.prog 6 #[.int .u32 (c : Int)] w fun e w' => e = .returned (.bool true) ∧ Up w w' := by
  have c1 := fun w => H.sec c w
  have c2 := fun w => second_ref c w
  have c3 := fun w => H.quick c w
  have c4 := fun w => quickly_ref c w
  have c5 := fun w => H.starts c w
  have c6 := fun w => starts_ref c w
  have c7 := fun w => awake_3 H w
  have hle := quick_le c
  clear H
  generalize secOf c = x at *
  generalize quickOf c = q at *
  generalize startOf c = y at *
  have h1 : (x == x) = true := by simp
  have h2 : (y == y) = true := by simp
  go_enter Try.func6, Try.ntmps6
  go_wp2_with fail
  refine (c1 _).mono ?_
  rintro e w1 ⟨rfl, hu1⟩
  go_wp2_with fail
  refine (c2 _).mono ?_
  rintro e w2 ⟨rfl, hu2⟩
  go_wp2_with fail
  refine (c3 _).mono ?_
  rintro e w3 ⟨rfl, hu3⟩
  go_wp2_with fail
  refine (c4 _).mono ?_
  rintro e w4 ⟨rfl, hu4⟩
  go_wp2_with fail
  refine (c5 _).mono ?_
  rintro e w5 ⟨rfl, hu5⟩
  go_wp2_with fail
  refine (c6 _).mono ?_
  rintro e w6 ⟨rfl, hu6⟩
  go_wp2_with fail
  refine (c7 _).mono ?_
  rintro e w7 ⟨rfl, hu7⟩
  go_wp2_with fail
  go_ret
  exact ⟨rfl, (((((hu1.trans hu2).trans hu3).trans hu4).trans hu5).trans hu6).trans hu7⟩

end Go.Proofs.Ytlneepmpieikeaa
