/- What is asked of the program's ucd; some closed cases. -/
import Derived.Test.YtlneepmpieikeaaUcn
namespace Go.Proofs.Ytlneepmpieikeaa
open Go.RowKit

/-- What the program's functions answer. -/
structure UcdOk : Prop where
  cls : ∀ (c : Nat) (w : World), Calls Try.prog 10 #[.int .u32 (c : Int)] w fun e w' => e = .returned (.int .i64 (clsOf c : Int)) ∧ Up w w'
  dec : ∀ (c : Nat) (w : World), Calls Try.prog 13 #[.int .u32 (c : Int)] w fun e w' => e = .returned (.tuple #[.int .u32 (decA c : Int), .int .u32 (decB c : Int), .bool (decOk c)]) ∧ Up w w'
  cmp : ∀ (c : Nat) (w : World), Calls Try.prog 15 #[.int .u32 (c : Int)] w fun e w' => e = .returned (.bool (cmpOf c)) ∧ Up w w'
  pair : ∀ (a b : Nat) (w : World), Calls Try.prog 17 #[.int .u32 (a : Int), .int .u32 (b : Int)] w fun e w' => ∃ (x : Nat) (ok : Bool), e = .returned (.tuple #[.int .u32 (x : Int), .bool ok]) ∧ PairP parL a b x ok ∧ Up w w'
  sec : ∀ (c : Nat) (w : World), Calls Try.prog 19 #[.int .u32 (c : Int)] w fun e w' => e = .returned (.bool (secOf c)) ∧ Up w w'
  quick : ∀ (c : Nat) (w : World), Calls Try.prog 21 #[.int .u32 (c : Int)] w fun e w' => e = .returned (.int .u8 (quickOf c : Int)) ∧ Up w w'
  starts : ∀ (c : Nat) (w : World), Calls Try.prog 23 #[.int .u32 (c : Int)] w fun e w' => e = .returned (.bool (startOf c)) ∧ Up w w'

theorem rank_at {l : List UInt8} {size N : Nat} (h : rising (keys N size l) = true) {c i : Nat} (hi : i + 1 < N) (h1 : key l size i ≤ c) (h2 : c < key l size (i + 1)) : rank l size c N = i + 1 :=
  last_uniq (rank_last h c) ⟨by omega, fun _ => by rw [Nat.add_sub_cancel]; exact h1, fun j h3 h4 => Nat.lt_of_lt_of_le h2 (key_le h _ _ h3 h4)⟩
theorem rank_zero {l : List UInt8} {size N : Nat} (h : rising (keys N size l) = true) {c : Nat} (h2 : c < key l size 0) : rank l size c N = 0 :=
  last_uniq (rank_last h c) ⟨by omega, fun h => absurd h (Nat.lt_irrefl 0), fun j _ h4 => Nat.lt_of_lt_of_le h2 (key_le h _ _ (Nat.zero_le j) h4)⟩

theorem k_cls0 : key clsS.data.toList 12 0 = 768 := by kernel_rfl
theorem k_cls1 : key clsS.data.toList 12 1 = 789 := by kernel_rfl
theorem k_cls0b : fld clsS.data.toList 12 0 5 5 = 788 := by kernel_rfl
theorem k_cls0c : fld clsS.data.toList 12 0 10 2 = 230 := by kernel_rfl
theorem k_dec0 : key decS.data.toList 16 0 = 192 := by kernel_rfl
theorem k_dec34 : key decS.data.toList 16 34 = 233 := by kernel_rfl
theorem k_dec34a : fld decS.data.toList 16 34 5 5 = 101 := by kernel_rfl
theorem k_dec34b : fld decS.data.toList 16 34 10 5 = 769 := by kernel_rfl
theorem k_dec345 : key decS.data.toList 16 345 = 2392 := by kernel_rfl
theorem k_dec345c : decS.data.toList[345 * 16 + 15]? = some 45 := by kernel_rfl
theorem k_dec352 : key decS.data.toList 16 352 = 2399 := by kernel_rfl
theorem k_dec353 : key decS.data.toList 16 353 = 2507 := by kernel_rfl
theorem k_par219 : key parS.data.toList 15 219 = 101 := by kernel_rfl
theorem k_par219b : fld parS.data.toList 15 219 5 5 = 769 := by kernel_rfl
theorem k_par219c : fld parS.data.toList 15 219 10 5 = 233 := by kernel_rfl
theorem k_par648 : fld parS.data.toList 15 648 5 5 = 2494 := by kernel_rfl

/- Lemmas of any character (a closed one sends the kernel through the tables). -/
theorem cls_of {c i : Nat} (hi : i + 1 < 388) (h1 : key clsL 12 i ≤ c) (h2 : c < key clsL 12 (i + 1)) (h3 : c ≤ fld clsL 12 i 5 5) : clsOf c = fld clsL 12 i 10 2 := by
  have h := rank_at cls_rising hi h1 h2
  unfold clsOf
  unfold clsL at *
  rw [h, if_neg (Nat.succ_ne_zero i), Nat.add_sub_cancel, if_neg (Nat.not_lt.2 h3)]
theorem cls_none {c : Nat} (h1 : c < key clsL 12 0) : clsOf c = 0 := by
  have h := rank_zero cls_rising h1
  unfold clsOf
  unfold clsL at *
  rw [h, if_pos rfl]
theorem row_none {c i : Nat} (hi : i + 1 < 2061) (h1 : key decL 16 i < c) (h2 : c < key decL 16 (i + 1)) : rowOf c = 0 := by
  have h := rank_at dec_rising hi (Nat.le_of_lt h1) h2
  unfold rowOf
  unfold decL at *
  rw [h, Nat.add_sub_cancel, if_pos (.inr (Nat.ne_of_lt h1))]
theorem row_less {c : Nat} (h1 : c < key decL 16 0) : rowOf c = 0 := by
  have h := rank_zero dec_rising h1
  unfold rowOf
  unfold decL at *
  rw [h, if_pos (.inl rfl)]
theorem quick_no {c k : Nat} (hr : rowOf c = k + 1) (hb : decL[k * 16 + 15]? = some 45) : quickOf c = 1 := by
  obtain ⟨_, _, h3⟩ := row_dec hr
  unfold quickOf
  rw [h3, hr, hb, if_pos ⟨Nat.succ_ne_zero k, by decide⟩]
theorem sec_of {c i : Nat} (hi : i < 941) (h : fld parL 15 i 5 5 = c) : secOf c = true := by
  unfold secOf
  rw [(isSec_iff c).2 ⟨i, hi, h⟩, Bool.or_true]
theorem sec_none {c : Nat} (h : c < 768) : secOf c = false := by
  have h1 : isSec c = false := by
    cases h1 : isSec c with
    | false => rfl
    | true => have := isSec_range c h1; omega
  have h2 : hanV c = false := by
    unfold hanV
    rw [decide_eq_false (show ¬ 4449 ≤ c by omega), decide_eq_false (show ¬ 4520 ≤ c by omega)]
    rfl
  unfold secOf
  rw [h1, h2]; rfl
theorem no_of {c : Nat} (hr : rowOf c = 0) (hs : secOf c = true) : startOf c = false := by
  unfold startOf quickOf
  rw [hr, hs, if_neg (fun h => h.1 rfl), if_pos rfl]
  simp
theorem yes_of {c : Nat} (hr : rowOf c = 0) (hc : clsOf c = 0) (hs : secOf c = false) : startOf c = true := by
  unfold startOf quickOf
  rw [hr, hs, hc, if_neg (fun h => h.1 rfl), if_neg Bool.false_ne_true]
  rfl
theorem decOk_of {c k : Nat} (hr : rowOf c = k + 1) : decOk c = true := by
  unfold decOk
  rw [hr]
  exact decide_eq_true (Nat.succ_ne_zero k)
theorem leq {x y z : Nat} (h : x = y) (h2 : y ≤ z) : x ≤ z := h ▸ h2
theorem geq {x y z : Nat} (h : x = y) (h2 : z ≤ y) : z ≤ x := h ▸ h2

theorem v_cls : clsOf 769 = 230 := (cls_of (i := 0) (by decide) (leq k_cls0 (by decide)) (geq k_cls1 (by decide)) (geq k_cls0b (by decide))).trans k_cls0c
theorem v_row : rowOf 233 = 34 + 1 := row_of_key (by decide) k_dec34
theorem v_decA : decA 233 = 101 := (row_dec v_row).1.trans k_dec34a
theorem v_decB : decB 233 = 769 := (row_dec v_row).2.1.trans k_dec34b
theorem v_ok : decOk 233 = true := decOk_of v_row
theorem v_pair : PairP parL 101 769 233 true := .inl ⟨rfl, 219, by decide, k_par219, k_par219b, k_par219c⟩
theorem v_quick : quickOf 2392 = 1 := quick_no (row_of_key (j := 345) (by decide) k_dec345) k_dec345c
theorem v_no : startOf 2494 = false := no_of (row_none (i := 352) (by decide) (leq (congrArg Nat.succ k_dec352) (by decide)) (geq k_dec353 (by decide))) (sec_of (i := 648) (by decide) k_par648)
theorem v_yes : startOf 65 = true := yes_of (row_less (geq k_dec0 (by decide))) (cls_none (geq k_cls0 (by decide))) (sec_none (by decide))

end Go.Proofs.Ytlneepmpieikeaa
