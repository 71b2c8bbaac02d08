/- The document's Quickly, Starts. -/
import Derived.Test.YtlneepmpieikeaaUcp
namespace Go.Proofs.Ytlneepmpieikeaa
open Go.RowKit

/-- What a character may be in what is composed. -/
noncomputable def quickOf (c : Nat) : Nat := if rowOf c ≠ 0 ∧ cmpOf c = false then 1 else if secOf c = true then 2 else 0
noncomputable def startOf (c : Nat) : Bool := decide (clsOf c = 0) && decide (quickOf c = 0)

set_option maxRecDepth 100000 in
theorem quickly_ref (c : Nat) (w : World) : Calls Try.prog 22 #[.int .u32 (c : Int)] w fun e w' => e = .returned (.int .i64 (quickOf c : Int)) ∧ Up w w' := by
  have hro := fun w => row_ref c w
  have hco := fun w => composes_ref c w
  have hse := fun w => second_ref c w
  have hle := rowOf_le c
  unfold quickOf
  unfold rowI at hro
  generalize cmpOf c = m at *
  generalize secOf c = s at *
  generalize rowOf c = r at *
  cases r with
  | zero =>
    simp only [if_pos] at hro
    rw [if_neg (fun h => h.1 rfl)]
    cases s with
    | true =>
      go_enter Try.func22, Try.ntmps22
      go_wp2_with fail
      refine (hro _).mono ?_
      rintro e w1 ⟨rfl, hu⟩
      go_wp2_with fail
      refine (hse _).mono ?_
      rintro e w2 ⟨rfl, hu2⟩
      go_wp2_with fail
      go_ret
      exact ⟨rfl, hu.trans hu2⟩
    | false =>
      go_enter Try.func22, Try.ntmps22
      go_wp2_with fail
      refine (hro _).mono ?_
      rintro e w1 ⟨rfl, hu⟩
      go_wp2_with fail
      refine (hse _).mono ?_
      rintro e w2 ⟨rfl, hu2⟩
      go_wp2_with fail
      go_ret
      exact ⟨rfl, hu.trans hu2⟩
  | succ k =>
    rw [if_neg (Nat.succ_ne_zero k), Nat.add_sub_cancel] at hro
    cases m with
    | false =>
      rw [if_pos ⟨Nat.succ_ne_zero k, rfl⟩]
      go_enter Try.func22, Try.ntmps22
      go_wp2_with fail
      refine (hro _).mono ?_
      rintro e w1 ⟨rfl, hu⟩
      go_wp2_with fail
      refine (hco _).mono ?_
      rintro e w2 ⟨rfl, hu2⟩
      go_wp2_with fail
      go_ret
      exact ⟨rfl, hu.trans hu2⟩
    | true =>
      rw [if_neg (fun h => Bool.noConfusion h.2)]
      cases s with
      | true =>
        go_enter Try.func22, Try.ntmps22
        go_wp2_with fail
        refine (hro _).mono ?_
        rintro e w1 ⟨rfl, hu⟩
        go_wp2_with fail
        refine (hco _).mono ?_
        rintro e w2 ⟨rfl, hu2⟩
        go_wp2_with fail
        refine (hse _).mono ?_
        rintro e w3 ⟨rfl, hu3⟩
        go_wp2_with fail
        go_ret
        exact ⟨rfl, (hu.trans hu2).trans hu3⟩
      | false =>
        go_enter Try.func22, Try.ntmps22
        go_wp2_with fail
        refine (hro _).mono ?_
        rintro e w1 ⟨rfl, hu⟩
        go_wp2_with fail
        refine (hco _).mono ?_
        rintro e w2 ⟨rfl, hu2⟩
        go_wp2_with fail
        refine (hse _).mono ?_
        rintro e w3 ⟨rfl, hu3⟩
        go_wp2_with fail
        go_ret
        exact ⟨rfl, (hu.trans hu2).trans hu3⟩

set_option maxRecDepth 100000 in
theorem starts_ref (c : Nat) (w : World) : Calls Try.prog 24 #[.int .u32 (c : Int)] w fun e w' => e = .returned (.bool (startOf c)) ∧ Up w w' := by
  have hcl := fun w => class_ref c w
  have hqu := fun w => quickly_ref c w
  unfold startOf
  generalize clsOf c = x at *
  generalize quickOf c = q at *
  by_cases hx : x = 0
  · subst hx
    by_cases hq : q = 0
    · subst hq
      go_enter Try.func24, Try.ntmps24
      go_wp2_with fail
      refine (hcl _).mono ?_
      rintro e w1 ⟨rfl, hu⟩
      go_wp2_with fail
      refine (hqu _).mono ?_
      rintro e w2 ⟨rfl, hu2⟩
      go_wp2_with fail
      go_ret
      exact ⟨rfl, hu.trans hu2⟩
    · have hne : ((q : Int) == 0) = false := by simp; omega
      go_enter Try.func24, Try.ntmps24
      go_wp2_with fail
      refine (hcl _).mono ?_
      rintro e w1 ⟨rfl, hu⟩
      go_wp2_with fail
      refine (hqu _).mono ?_
      rintro e w2 ⟨rfl, hu2⟩
      go_wp2_with fail
      go_ret
      exact ⟨ret_val (by simp [hq]), hu.trans hu2⟩
  · have hne : ((x : Int) == 0) = false := by simp; omega
    go_enter Try.func24, Try.ntmps24
    go_wp2_with fail
    refine (hcl _).mono ?_
    rintro e w1 ⟨rfl, hu⟩
    go_wp2_with fail
    go_ret
    exact ⟨ret_val (by simp [hx]), hu⟩

end Go.Proofs.Ytlneepmpieikeaa
