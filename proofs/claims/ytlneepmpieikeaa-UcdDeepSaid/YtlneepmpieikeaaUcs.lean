/- The document's Decomp, Composes, Second, Pair, Quickly, Starts. -/
import Derived.Test.YtlneepmpieikeaaUcr
import Derived.OwnWalk
namespace Go.Proofs.Ytlneepmpieikeaa
open Go.RowKit

noncomputable def decA (c : Nat) : Nat := if rowOf c = 0 then 0 else fld decL 16 (rowOf c - 1) 5 5
noncomputable def decB (c : Nat) : Nat := if rowOf c = 0 then 0 else fld decL 16 (rowOf c - 1) 10 5
noncomputable def decOk (c : Nat) : Bool := decide (rowOf c ≠ 0)

theorem rowOf_le (c : Nat) : rowOf c ≤ 2061 := by
  unfold rowOf
  split
  · exact Nat.zero_le _
  · exact (rank_last dec_rising c).1

set_option maxRecDepth 100000 in
theorem decomp_ref (c : Nat) (w : World) : Calls Try.prog 14 #[.int .u32 (c : Int)] w fun e w' => e = .returned (.tuple #[.int .u32 (decA c : Int), .int .u32 (decB c : Int), .bool (decOk c)]) ∧ Up w w' := by
  have hro := row_ref c w
  have hle := rowOf_le c
  unfold decA decB decOk decL rowI at *
  obtain ⟨r, hr⟩ : ∃ r, rowOf c = r := ⟨_, rfl⟩
  rw [hr] at hro hle ⊢
  clear hr
  have n1 := fun (k : Nat) (hk : k ≤ 2061) (w' : World) => num_at decS 16 k 5 5 (by omega) (by omega) w' (16 * (k : Int) + 5) (by omega) 5 rfl
  have n2 := fun (k : Nat) (hk : k ≤ 2061) (w' : World) => num_at decS 16 k 10 5 (by omega) (by omega) w' (16 * (k : Int) + 10) (by omega) 5 rfl
  cases r with
  | zero =>
    simp only [if_pos] at hro
    clear n1 n2
    go_enter Try.func14, Try.ntmps14
    conv in (occs := *) (Value.string _) => all_goals change Value.string decS
    generalize decS = S at *
    go_wp2_with fail
    refine hro.mono ?_
    rintro e w1 ⟨rfl, hu⟩
    go_wp2_with fail
    go_ret3
    exact ⟨rfl, hu⟩
  | succ k =>
    rw [if_neg (Nat.succ_ne_zero k), Nat.add_sub_cancel] at hro
    simp only [if_neg (Nat.succ_ne_zero k), Nat.add_sub_cancel]
    have m1 := n1 k (by omega)
    have m2 := n2 k (by omega)
    obtain ⟨x, hx⟩ : ∃ x, fld decS.data.toList 16 k 5 5 = x := ⟨_, rfl⟩
    obtain ⟨y, hy⟩ : ∃ y, fld decS.data.toList 16 k 10 5 = y := ⟨_, rfl⟩
    rw [hx, hy]
    simp only [hx] at m1
    simp only [hy] at m2
    clear hx hy n1 n2
    go_enter Try.func14, Try.ntmps14
    conv in (occs := *) (Value.string _) => all_goals change Value.string decS
    generalize decS = S at *
    go_wp2_with fail
    refine hro.mono ?_
    rintro e w1 ⟨rfl, hu⟩
    go_wp2_with fail
    refine (m1 _).mono ?_
    rintro e w2 ⟨rfl, rfl⟩
    go_wp2_with fail
    refine (m2 _).mono ?_
    rintro e w3 ⟨rfl, rfl⟩
    go_wp2_with fail
    go_ret3
    exact ⟨by simp, hu⟩

/-- Is a character composed again? -/
noncomputable def cmpOf (c : Nat) : Bool := decide (rowOf c ≠ 0) && decide (decL[(rowOf c - 1) * 16 + 15]? = some 99)

set_option maxRecDepth 100000 in
theorem composes_ref (c : Nat) (w : World) : Calls Try.prog 16 #[.int .u32 (c : Int)] w fun e w' => e = .returned (.bool (cmpOf c)) ∧ Up w w' := by
  have hro := row_ref c w
  have hle := rowOf_le c
  have hsz := dec_sz
  unfold cmpOf decL rowI at *
  obtain ⟨r, hr⟩ : ∃ r, rowOf c = r := ⟨_, rfl⟩
  rw [hr] at hro hle ⊢
  clear hr
  cases r with
  | zero =>
    simp only [if_pos] at hro
    go_enter Try.func16, Try.ntmps16
    conv in (occs := *) (Value.string _) => all_goals change Value.string decS
    generalize decS = S at *
    go_wp2_with fail
    refine hro.mono ?_
    rintro e w1 ⟨rfl, hu⟩
    go_wp2_with fail
    go_ret
    exact ⟨rfl, hu⟩
  | succ k =>
    rw [if_neg (Nat.succ_ne_zero k), Nat.add_sub_cancel] at hro
    rw [Nat.add_sub_cancel]
    have hk : k * 16 + 15 < decS.size := by rw [hsz]; omega
    have hget : decS.data.toList[k * 16 + 15]? = some decS[k * 16 + 15] := by
      rw [List.getElem?_eq_getElem (by rw [← size_of]; exact hk)]
      rfl
    rw [hget]
    have hk2 : 16 * k + 15 < decS.size := by omega
    have hb : decS[k * 16 + 15] = decS[16 * k + 15] := by congr 1; omega
    rw [hb]
    clear hget hb hk hsz
    have hi : ∀ (h : (16 * (k : Int) + 15).toNat < decS.size), decS[(16 * (k : Int) + 15).toNat] = decS[16 * k + 15] := fun h => by congr 1
    obtain ⟨y, hy⟩ : ∃ y, decS[16 * k + 15] = y := ⟨_, rfl⟩
    simp only [hy] at hi ⊢
    clear hy
    have hI : (0 ≤ 16 * (k : Int) + 15 ∧ 16 * (k : Int) + 15 < (decS.size : Int)) := by omega
    clear hk2
    have hy99 : decide (some y = some 99) = ((y.toNat : Int) == 99) := by
      rw [Bool.eq_iff_iff]
      simp only [decide_eq_true_eq, Option.some.injEq, beq_iff_eq]
      constructor
      · rintro rfl; rfl
      · intro h; exact UInt8.toNat_inj.1 (by show y.toNat = 99; omega)
    rw [hy99]
    clear hy99
    go_enter Try.func16, Try.ntmps16
    conv in (occs := *) (Value.string _) => all_goals change Value.string decS
    generalize decS = S at *
    go_wp2_with fail
    refine hro.mono ?_
    rintro e w1 ⟨rfl, hu⟩
    obtain ⟨hI1, hI2⟩ := hI
    go_wp2_with fail
    go_ret
    exact ⟨by simp, hu⟩

end Go.Proofs.Ytlneepmpieikeaa
