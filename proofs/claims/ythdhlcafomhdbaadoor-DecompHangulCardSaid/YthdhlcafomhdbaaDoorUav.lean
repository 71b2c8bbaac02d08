/- What is asked of the program's ucd; some closed cases. -/
import Derived.Test.YthdhlcafomhdbaaDoorUcn
namespace Go.Proofs.YthdhlcafomhdbaaDoor
open Go.RowKit

theorem rank_at {l : List UInt8} {size N : Nat} (h : rising (keys N size l) = true) {c i : Nat} (hi : i + 1 < N) (h1 : key l size i ≤ c) (h2 : c < key l size (i + 1)) : rank l size c N = i + 1 :=
  last_uniq (rank_last h c) ⟨by omega, fun _ => by rw [Nat.add_sub_cancel]; exact h1, fun j h3 h4 => Nat.lt_of_lt_of_le h2 (key_le h _ _ h3 h4)⟩
theorem rank_zero {l : List UInt8} {size N : Nat} (h : rising (keys N size l) = true) {c : Nat} (h2 : c < key l size 0) : rank l size c N = 0 :=
  last_uniq (rank_last h c) ⟨by omega, fun h => absurd h (Nat.lt_irrefl 0), fun j _ h4 => Nat.lt_of_lt_of_le h2 (key_le h _ _ (Nat.zero_le j) h4)⟩

theorem k_dec0 : key decS.data.toList 16 0 = 192 := by kernel_rfl
theorem k_dec34 : key decS.data.toList 16 34 = 233 := by kernel_rfl
theorem k_dec34a : fld decS.data.toList 16 34 5 5 = 101 := by kernel_rfl
theorem k_dec34b : fld decS.data.toList 16 34 10 5 = 769 := by kernel_rfl
theorem k_dec345 : key decS.data.toList 16 345 = 2392 := by kernel_rfl
theorem k_dec345c : decS.data.toList[345 * 16 + 15]? = some 45 := by kernel_rfl
theorem k_dec352 : key decS.data.toList 16 352 = 2399 := by kernel_rfl
theorem k_dec353 : key decS.data.toList 16 353 = 2507 := by kernel_rfl
/- Lemmas of any character (a closed one sends the kernel through the tables). -/
theorem row_none {c i : Nat} (hi : i + 1 < 2061) (h1 : key decL 16 i < c) (h2 : c < key decL 16 (i + 1)) : rowOf c = 0 := by
  have h := rank_at dec_rising hi (Nat.le_of_lt h1) h2
  unfold rowOf
  unfold decL at *
  rw [h, Nat.add_sub_cancel, if_pos (.inr (Nat.ne_of_lt h1))]
theorem row_less {c : Nat} (h1 : c < key decL 16 0) : rowOf c = 0 := by
  have h := rank_zero dec_rising h1
  unfold rowOf
  unfold decL at *
  rw [h, if_pos (.inl rfl)]
theorem decOk_of {c k : Nat} (hr : rowOf c = k + 1) : decOk c = true := by
  unfold decOk
  rw [hr]
  exact decide_eq_true (Nat.succ_ne_zero k)
theorem leq {x y z : Nat} (h : x = y) (h2 : y ≤ z) : x ≤ z := h ▸ h2
theorem geq {x y z : Nat} (h : x = y) (h2 : z ≤ y) : z ≤ x := h ▸ h2

theorem v_row : rowOf 233 = 34 + 1 := row_of_key (by decide) k_dec34
theorem v_decA : decA 233 = 101 := (row_dec v_row).1.trans k_dec34a
theorem v_decB : decB 233 = 769 := (row_dec v_row).2.1.trans k_dec34b
theorem v_ok : decOk 233 = true := decOk_of v_row
end Go.Proofs.YthdhlcafomhdbaaDoor
