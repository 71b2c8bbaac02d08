/- The document's Decomp, Composes, Second, Pair, Quickly, Starts. -/
import Derived.Test.YthdhlcafomhdbaaDoorUcr
import Derived.OwnWalk
namespace Go.Proofs.YthdhlcafomhdbaaDoor
open Go.RowKit

noncomputable def decA (c : Nat) : Nat := if rowOf c = 0 then 0 else fld decL 16 (rowOf c - 1) 5 5
noncomputable def decB (c : Nat) : Nat := if rowOf c = 0 then 0 else fld decL 16 (rowOf c - 1) 10 5
noncomputable def decOk (c : Nat) : Bool := decide (rowOf c ≠ 0)

theorem rowOf_le (c : Nat) : rowOf c ≤ 2061 := by
  unfold rowOf
  split
  · exact Nat.zero_le _
  · exact (rank_last dec_rising c).1

set_option maxRecDepth 100000 in
theorem decomp_ref (c : Nat) (w : World) : Calls Tryd.prog 26 #[.int .u32 (c : Int)] w fun e w' => e = .returned (.tuple #[.int .u32 (decA c : Int), .int .u32 (decB c : Int), .bool (decOk c)]) ∧ Up w w' := by
  have hro := row_ref c w
  have hle := rowOf_le c
  unfold decA decB decOk decL rowI at *
  obtain ⟨r, hr⟩ : ∃ r, rowOf c = r := ⟨_, rfl⟩
  rw [hr] at hro hle ⊢
  clear hr
  have n1 := fun (k : Nat) (hk : k ≤ 2061) (w' : World) => num_at decS 16 k 5 5 (by omega) (by omega) w' (16 * (k : Int) + 5) (by omega) 5 rfl
  have n2 := fun (k : Nat) (hk : k ≤ 2061) (w' : World) => num_at decS 16 k 10 5 (by omega) (by omega) w' (16 * (k : Int) + 10) (by omega) 5 rfl
  cases r with
  | zero =>
    simp only [if_pos] at hro
    clear n1 n2
    go_enter Tryd.func26, Tryd.ntmps26
    conv in (occs := *) (Value.string _) => all_goals change Value.string decS
    generalize decS = S at *
    go_wp2_with fail
    refine hro.mono ?_
    rintro e w1 ⟨rfl, hu⟩
    go_wp2_with fail
    go_ret3
    exact ⟨rfl, hu⟩
  | succ k =>
    rw [if_neg (Nat.succ_ne_zero k), Nat.add_sub_cancel] at hro
    simp only [if_neg (Nat.succ_ne_zero k), Nat.add_sub_cancel]
    have m1 := n1 k (by omega)
    have m2 := n2 k (by omega)
    obtain ⟨x, hx⟩ : ∃ x, fld decS.data.toList 16 k 5 5 = x := ⟨_, rfl⟩
    obtain ⟨y, hy⟩ : ∃ y, fld decS.data.toList 16 k 10 5 = y := ⟨_, rfl⟩
    rw [hx, hy]
    simp only [hx] at m1
    simp only [hy] at m2
    clear hx hy n1 n2
    go_enter Tryd.func26, Tryd.ntmps26
    conv in (occs := *) (Value.string _) => all_goals change Value.string decS
    generalize decS = S at *
    go_wp2_with fail
    refine hro.mono ?_
    rintro e w1 ⟨rfl, hu⟩
    go_wp2_with fail
    refine (m1 _).mono ?_
    rintro e w2 ⟨rfl, rfl⟩
    go_wp2_with fail
    refine (m2 _).mono ?_
    rintro e w3 ⟨rfl, rfl⟩
    go_wp2_with fail
    go_ret3
    exact ⟨by simp, hu⟩

/-- Is a character composed again? -/
noncomputable def cmpOf (c : Nat) : Bool := decide (rowOf c ≠ 0) && decide (decL[(rowOf c - 1) * 16 + 15]? = some 99)

end Go.Proofs.YthdhlcafomhdbaaDoor
