/- Pairs and what is composed again: each is the other. -/
import Derived.Test.YthdhlcafomhdbaaDoorUcd
namespace Go.Proofs.YthdhlcafomhdbaaDoor
open Go.RowKit

theorem row_of_key {j x : Nat} (hj : j < 2061) (h : key decL 16 j = x) : rowOf x = j + 1 := by
  have hr : rank decL 16 x 2061 = j + 1 := by
    refine last_uniq (rank_last dec_rising x) ⟨hj, fun _ => by rw [Nat.add_sub_cancel]; exact Nat.le_of_eq h, fun i h1 h2 => ?_⟩
    have := key_lt dec_rising (show j < i by omega) h2
    unfold decL at h
    omega
  unfold rowOf
  rw [hr, Nat.add_sub_cancel, if_neg (by rintro (h1 | h1); · omega
                                         · exact h1 h)]
theorem row_key {c k : Nat} (h : rowOf c = k + 1) : k < 2061 ∧ key decL 16 k = c := by
  have hle := rowOf_le c
  refine ⟨by omega, ?_⟩
  unfold rowOf at h
  split at h
  · omega
  · rename_i hn
    rw [h, Nat.add_sub_cancel] at hn
    exact Decidable.byContradiction fun hk => hn (.inr hk)
theorem row_dec {c k : Nat} (h : rowOf c = k + 1) : decA c = fld decL 16 k 5 5 ∧ decB c = fld decL 16 k 10 5 ∧ cmpOf c = decide (decL[k * 16 + 15]? = some 99) := by
  unfold decA decB cmpOf
  rw [h, Nat.add_sub_cancel, if_neg (Nat.succ_ne_zero k), if_neg (Nat.succ_ne_zero k)]
  simp

end Go.Proofs.YthdhlcafomhdbaaDoor
