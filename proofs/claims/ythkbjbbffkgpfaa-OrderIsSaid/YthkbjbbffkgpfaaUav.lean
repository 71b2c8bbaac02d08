/- What is asked of the program's ucd; some closed cases. -/
import Derived.Test.YthkbjbbffkgpfaaUcn
namespace Go.Proofs.Ythkbjbbffkgpfaa
open Go.RowKit

theorem rank_at {l : List UInt8} {size N : Nat} (h : rising (keys N size l) = true) {c i : Nat} (hi : i + 1 < N) (h1 : key l size i ≤ c) (h2 : c < key l size (i + 1)) : rank l size c N = i + 1 :=
  last_uniq (rank_last h c) ⟨by omega, fun _ => by rw [Nat.add_sub_cancel]; exact h1, fun j h3 h4 => Nat.lt_of_lt_of_le h2 (key_le h _ _ h3 h4)⟩
theorem rank_zero {l : List UInt8} {size N : Nat} (h : rising (keys N size l) = true) {c : Nat} (h2 : c < key l size 0) : rank l size c N = 0 :=
  last_uniq (rank_last h c) ⟨by omega, fun h => absurd h (Nat.lt_irrefl 0), fun j _ h4 => Nat.lt_of_lt_of_le h2 (key_le h _ _ (Nat.zero_le j) h4)⟩

theorem k_cls0 : key clsS.data.toList 12 0 = 768 := by kernel_rfl
theorem k_cls1 : key clsS.data.toList 12 1 = 789 := by kernel_rfl
theorem k_cls0b : fld clsS.data.toList 12 0 5 5 = 788 := by kernel_rfl
theorem k_cls0c : fld clsS.data.toList 12 0 10 2 = 230 := by kernel_rfl
/- Lemmas of any character (a closed one sends the kernel through the tables). -/
theorem cls_of {c i : Nat} (hi : i + 1 < 388) (h1 : key clsL 12 i ≤ c) (h2 : c < key clsL 12 (i + 1)) (h3 : c ≤ fld clsL 12 i 5 5) : clsOf c = fld clsL 12 i 10 2 := by
  have h := rank_at cls_rising hi h1 h2
  unfold clsOf
  unfold clsL at *
  rw [h, if_neg (Nat.succ_ne_zero i), Nat.add_sub_cancel, if_neg (Nat.not_lt.2 h3)]
theorem cls_none {c : Nat} (h1 : c < key clsL 12 0) : clsOf c = 0 := by
  have h := rank_zero cls_rising h1
  unfold clsOf
  unfold clsL at *
  rw [h, if_pos rfl]
theorem leq {x y z : Nat} (h : x = y) (h2 : y ≤ z) : x ≤ z := h ▸ h2
theorem geq {x y z : Nat} (h : x = y) (h2 : z ≤ y) : z ≤ x := h ▸ h2

theorem v_cls : clsOf 769 = 230 := (cls_of (i := 0) (by decide) (leq k_cls0 (by decide)) (geq k_cls1 (by decide)) (geq k_cls0b (by decide))).trans k_cls0c
end Go.Proofs.Ythkbjbbffkgpfaa
