/- Bas: one text of Utf Width Pi Mem Args App Own Ks Smg. -/
import GoSem.Core.Utf8
import Derived.Test.YtipemmjbgegmfaaGreatDoorRows
import Derived.WalkKit
import Derived.ProofKit
import Derived.Lib.Hide
import Derived.Outline
import Derived.Deep.QuietTactic
import Derived.BigQuiet
import Derived.OrdersHeld
import Derived.Deep.Draws
import Derived.Below
import Derived.WalkLawsBesides
import Derived.Laws.IdiomStrings
import Derived.Laws.OwnMore
import Derived.SizedLaws
import Derived.ChangeOld
import Derived.Maps.AppendAt
import Derived.OwnWalk

/- UTF-8, plain: what a text's first bytes decode to, and what a number's bytes are. No program is met here. -/
namespace Go.Proofs.YtipemmjbgegmfaaGreatDoor.U

def isCp (c : Nat) : Prop := c ≤ 1114111 ∧ ¬(55296 ≤ c ∧ c ≤ 57343)
instance (c : Nat) : Decidable (isCp c) := by unfold isCp; exact inferInstance

def wid (c : Nat) : Nat := if c < 128 then 1 else if c < 2048 then 2 else if (55296 ≤ c ∧ c ≤ 57343) ∨ 1114111 < c then 0 else if c < 65536 then 3 else 4

def enc (c : Nat) : List UInt8 :=
  if c < 128 then [UInt8.ofNat c]
  else if c < 2048 then [UInt8.ofNat (192 + c / 64), UInt8.ofNat (128 + c % 64)]
  else if c < 65536 then [UInt8.ofNat (224 + c / 4096), UInt8.ofNat (128 + c / 64 % 64), UInt8.ofNat (128 + c % 64)]
  else [UInt8.ofNat (240 + c / 262144), UInt8.ofNat (128 + c / 4096 % 64), UInt8.ofNat (128 + c / 64 % 64), UInt8.ofNat (128 + c % 64)]

theorem wid_pos {c : Nat} : 0 < wid c ↔ isCp c := by
  unfold wid isCp; repeat' split
  all_goals omega
theorem wid_le (c : Nat) : wid c ≤ 4 := by unfold wid; repeat' split
                                           all_goals omega
theorem enc_len {c : Nat} (h : isCp c) : (enc c).length = wid c := by
  unfold isCp at h; unfold enc wid; repeat' split
  all_goals first | rfl | omega

theorem encode_eq {c : Nat} (h : isCp c) : (Utf8.encode (c : Int)).data.toList = enc c := by
  have hv : Utf8.valid (c : Int) = true := by unfold isCp at h; unfold Utf8.valid; simp; omega
  simp only [Utf8.encode, hv, if_true, Int.toNat_natCast, enc]
  by_cases h1 : c < 128
  · simp only [h1, if_true]
  · by_cases h2 : c < 2048
    · simp only [h1, h2, if_true, if_false]
    · by_cases h3 : c < 65536
      · simp only [h1, h2, h3, if_true, if_false]
      · simp only [h1, h2, h3, if_false]

/-- The k-th byte, 0 beyond. -/
def nth (l : List UInt8) (k : Nat) : Nat := (l[k]?.getD 0).toNat
def cont (l : List UInt8) (k : Nat) : Prop := k < l.length ∧ nth l k / 64 = 2
instance (l : List UInt8) (k : Nat) : Decidable (cont l k) := by unfold cont; exact inferInstance

def dec (l : List UInt8) : Nat × Nat :=
  if nth l 0 < 128 then (nth l 0, 1)
  else if nth l 0 / 32 = 6 ∧ cont l 1 then
    (if 128 ≤ nth l 0 % 32 * 64 + nth l 1 % 64 then (nth l 0 % 32 * 64 + nth l 1 % 64, 2) else (65533, 1))
  else if nth l 0 / 16 = 14 ∧ cont l 1 ∧ cont l 2 then
    (if 2048 ≤ nth l 0 % 16 * 4096 + nth l 1 % 64 * 64 + nth l 2 % 64 ∧ isCp (nth l 0 % 16 * 4096 + nth l 1 % 64 * 64 + nth l 2 % 64) then (nth l 0 % 16 * 4096 + nth l 1 % 64 * 64 + nth l 2 % 64, 3) else (65533, 1))
  else if nth l 0 / 8 = 30 ∧ cont l 1 ∧ cont l 2 ∧ cont l 3 then
    (if 65536 ≤ nth l 0 % 8 * 262144 + nth l 1 % 64 * 4096 + nth l 2 % 64 * 64 + nth l 3 % 64 ∧ isCp (nth l 0 % 8 * 262144 + nth l 1 % 64 * 4096 + nth l 2 % 64 * 64 + nth l 3 % 64) then (nth l 0 % 8 * 262144 + nth l 1 % 64 * 4096 + nth l 2 % 64 * 64 + nth l 3 % 64, 4) else (65533, 1))
  else (65533, 1)

theorem valid_iff (c : Nat) : Utf8.valid (c : Int) = true ↔ isCp c := by
  unfold Utf8.valid isCp; simp; omega

theorem get_nth (s : ByteArray) (i k : Nat) : (s.get! (i + k)).toNat = nth (s.data.toList.drop i) k := by
  unfold nth
  rw [List.getElem?_drop, Array.getElem?_toList]
  congr 1
  show s.data[i + k]! = _
  rw [Array.getElem!_eq_getD]
  simp only [Array.getD_eq_getD_getElem?]
  rfl

theorem decode_eq (s : ByteArray) (i : Nat) : Utf8.decode s i = dec (s.data.toList.drop i) := by
  unfold Utf8.decode dec cont
  simp only [get_nth, List.length_drop, Array.length_toList, Utf8.runeError, Bool.and_eq_true, beq_iff_eq, decide_eq_true_eq, valid_iff, ge_iff_le]
  have h1 : ∀ k, (i + k < s.size) = (k < s.data.size - i) := fun k => by
    apply propext; show i + k < s.data.size ↔ _; omega
  simp only [h1, and_assoc]


theorem wid_isCp {c : Nat} (h : isCp c) : wid c = if c < 128 then 1 else if c < 2048 then 2 else if c < 65536 then 3 else 4 := by
  unfold isCp at h; unfold wid; repeat' split
  all_goals omega

theorem toNat_of (n : Nat) (h : n < 256) : (UInt8.ofNat n).toNat = n := by
  rw [UInt8.toNat_ofNat']; exact Nat.mod_eq_of_lt h

/-- A code point's bytes decode to it. -/
theorem dec_enc {c : Nat} (h : isCp c) (r : List UInt8) : dec (enc c ++ r) = (c, wid c) := by
  have hc := h.1
  rw [wid_isCp h]
  by_cases h1 : c < 128
  · have e : enc c = [UInt8.ofNat c] := by unfold enc; rw [if_pos h1]
    have n0 : nth (enc c ++ r) 0 = c := by rw [e]; show (UInt8.ofNat c).toNat = c; exact toNat_of _ (by omega)
    unfold dec
    rw [n0, if_pos h1, if_pos h1]
  · by_cases h2 : c < 2048
    · have e : enc c = [UInt8.ofNat (192 + c / 64), UInt8.ofNat (128 + c % 64)] := by unfold enc; rw [if_neg h1, if_pos h2]
      have n0 : nth (enc c ++ r) 0 = 192 + c / 64 := by rw [e]; show (UInt8.ofNat _).toNat = _; exact toNat_of _ (by omega)
      have n1 : nth (enc c ++ r) 1 = 128 + c % 64 := by rw [e]; show (UInt8.ofNat _).toNat = _; exact toNat_of _ (by omega)
      have l1 : 2 ≤ (enc c ++ r).length := by rw [e]; simp
      have q1 : cont (enc c ++ r) 1 := ⟨by omega, by rw [n1]; omega⟩
      unfold dec
      rw [n0, n1, if_neg (by omega), if_pos ⟨by omega, q1⟩, if_pos (by omega), if_neg h1, if_pos h2]
      rw [show (192 + c / 64) % 32 * 64 + (128 + c % 64) % 64 = c from by omega]
    · by_cases h3 : c < 65536
      · have e : enc c = [UInt8.ofNat (224 + c / 4096), UInt8.ofNat (128 + c / 64 % 64), UInt8.ofNat (128 + c % 64)] := by unfold enc; rw [if_neg h1, if_neg h2, if_pos h3]
        have n0 : nth (enc c ++ r) 0 = 224 + c / 4096 := by rw [e]; show (UInt8.ofNat _).toNat = _; exact toNat_of _ (by omega)
        have n1 : nth (enc c ++ r) 1 = 128 + c / 64 % 64 := by rw [e]; show (UInt8.ofNat _).toNat = _; exact toNat_of _ (by omega)
        have n2 : nth (enc c ++ r) 2 = 128 + c % 64 := by rw [e]; show (UInt8.ofNat _).toNat = _; exact toNat_of _ (by omega)
        have l1 : 3 ≤ (enc c ++ r).length := by rw [e]; simp
        have q1 : cont (enc c ++ r) 1 := ⟨by omega, by rw [n1]; omega⟩
        have q2 : cont (enc c ++ r) 2 := ⟨by omega, by rw [n2]; omega⟩
        have ee : (224 + c / 4096) % 16 * 4096 + (128 + c / 64 % 64) % 64 * 64 + (128 + c % 64) % 64 = c := by omega
        unfold dec
        rw [n0, n1, n2, if_neg (by omega), if_neg (by omega), if_pos ⟨by omega, q1, q2⟩, ee, if_pos ⟨by omega, h⟩, if_neg h1, if_neg h2, if_pos h3]
      · have e : enc c = [UInt8.ofNat (240 + c / 262144), UInt8.ofNat (128 + c / 4096 % 64), UInt8.ofNat (128 + c / 64 % 64), UInt8.ofNat (128 + c % 64)] := by unfold enc; rw [if_neg h1, if_neg h2, if_neg h3]
        have n0 : nth (enc c ++ r) 0 = 240 + c / 262144 := by rw [e]; show (UInt8.ofNat _).toNat = _; exact toNat_of _ (by omega)
        have n1 : nth (enc c ++ r) 1 = 128 + c / 4096 % 64 := by rw [e]; show (UInt8.ofNat _).toNat = _; exact toNat_of _ (by omega)
        have n2 : nth (enc c ++ r) 2 = 128 + c / 64 % 64 := by rw [e]; show (UInt8.ofNat _).toNat = _; exact toNat_of _ (by omega)
        have n3 : nth (enc c ++ r) 3 = 128 + c % 64 := by rw [e]; show (UInt8.ofNat _).toNat = _; exact toNat_of _ (by omega)
        have l1 : 4 ≤ (enc c ++ r).length := by rw [e]; simp
        have q1 : cont (enc c ++ r) 1 := ⟨by omega, by rw [n1]; omega⟩
        have q2 : cont (enc c ++ r) 2 := ⟨by omega, by rw [n2]; omega⟩
        have q3 : cont (enc c ++ r) 3 := ⟨by omega, by rw [n3]; omega⟩
        have ee : (240 + c / 262144) % 8 * 262144 + (128 + c / 4096 % 64) % 64 * 4096 + (128 + c / 64 % 64) % 64 * 64 + (128 + c % 64) % 64 = c := by omega
        unfold dec
        rw [n0, n1, n2, n3, if_neg (by omega), if_neg (by omega), if_neg (by omega), if_pos ⟨by omega, q1, q2, q3⟩, ee, if_pos ⟨by omega, h⟩, if_neg h1, if_neg h2, if_neg h3]

theorem nth_lt (l : List UInt8) (k : Nat) : nth l k < 256 := by unfold nth; exact UInt8.toNat_lt _
theorem nth_get (l : List UInt8) (k : Nat) (h : k < l.length) : l[k] = UInt8.ofNat (nth l k) := by
  unfold nth; rw [List.getElem?_eq_getElem h]; simp
theorem take_nth1 (l : List UInt8) (h : 1 ≤ l.length) : l.take 1 = [UInt8.ofNat (nth l 0)] := by
  match l, h with | a :: _, _ => simp [nth]
theorem take_nth2 (l : List UInt8) (h : 2 ≤ l.length) : l.take 2 = [UInt8.ofNat (nth l 0), UInt8.ofNat (nth l 1)] := by
  match l, h with | a :: b :: _, _ => simp [nth]
theorem take_nth3 (l : List UInt8) (h : 3 ≤ l.length) : l.take 3 = [UInt8.ofNat (nth l 0), UInt8.ofNat (nth l 1), UInt8.ofNat (nth l 2)] := by
  match l, h with | a :: b :: c :: _, _ => simp [nth]
theorem take_nth4 (l : List UInt8) (h : 4 ≤ l.length) : l.take 4 = [UInt8.ofNat (nth l 0), UInt8.ofNat (nth l 1), UInt8.ofNat (nth l 2), UInt8.ofNat (nth l 3)] := by
  match l, h with | a :: b :: c :: d :: _, _ => simp [nth]

theorem dec_pos (l : List UInt8) : 1 ≤ (dec l).2 := by
  unfold dec; repeat' split
  all_goals simp
theorem dec_le (l : List UInt8) (h : 1 ≤ l.length) : (dec l).2 ≤ l.length := by
  unfold dec cont; repeat' split
  all_goals simp only
  all_goals omega

/-- What decodes to as many bytes as it has is a code point, and these are its bytes. -/
theorem dec_wid {l : List UInt8} (h0 : 1 ≤ l.length) (h : (dec l).2 = wid (dec l).1) : isCp (dec l).1 ∧ l.take (dec l).2 = enc (dec l).1 := by
  have hp := dec_pos l
  have hcp : isCp (dec l).1 := wid_pos.1 (by omega)
  refine ⟨hcp, ?_⟩
  rw [wid_isCp hcp] at h
  have b0 := nth_lt l 0
  have b1 := nth_lt l 1
  have b2 := nth_lt l 2
  have b3 := nth_lt l 3
  revert h hcp
  clear hp
  unfold dec
  split
  · intro h hcp
    dsimp only
    unfold enc
    rw [take_nth1 l h0, if_pos (by assumption)]
  · split
    · rename_i _ g
      obtain ⟨g1, g2, g3⟩ := g
      split
      · intro hcp h
        dsimp only at *
        generalize hc : nth l 0 % 32 * 64 + nth l 1 % 64 = c at *
        unfold enc
        rw [take_nth2 l (by omega), if_neg (by omega), if_pos (by omega)]
        rw [show 192 + c / 64 = nth l 0 from by omega, show 128 + c % 64 = nth l 1 from by omega]
      · intro hcp h; simp at hcp
    · split
      · rename_i _ _ g
        obtain ⟨g1, ⟨g2, g3⟩, g4, g5⟩ := g
        split
        · rename_i k
          have k1 := k.1
          intro hcp h
          dsimp only at *
          generalize hc : nth l 0 % 16 * 4096 + nth l 1 % 64 * 64 + nth l 2 % 64 = c at *
          unfold enc
          rw [take_nth3 l (by omega), if_neg (by omega), if_neg (by omega), if_pos (by omega)]
          rw [show 224 + c / 4096 = nth l 0 from by omega, show 128 + c / 64 % 64 = nth l 1 from by omega, show 128 + c % 64 = nth l 2 from by omega]
        · intro hcp h; simp at hcp
      · split
        · rename_i _ _ _ g
          obtain ⟨g1, ⟨g2, g3⟩, ⟨g4, g5⟩, g6, g7⟩ := g
          split
          · rename_i k
            have k1 := k.1
            intro hcp h
            dsimp only at *
            generalize hc : nth l 0 % 8 * 262144 + nth l 1 % 64 * 4096 + nth l 2 % 64 * 64 + nth l 3 % 64 = c at *
            unfold enc
            rw [take_nth4 l (by omega), if_neg (by omega), if_neg (by omega), if_neg (by omega)]
            rw [show 240 + c / 262144 = nth l 0 from by omega, show 128 + c / 4096 % 64 = nth l 1 from by omega, show 128 + c / 64 % 64 = nth l 2 from by omega, show 128 + c % 64 = nth l 3 from by omega]
          · intro hcp h; simp at hcp
        · intro hcp h; simp at hcp

theorem dec_cp_le (l : List UInt8) : (dec l).1 ≤ 1114111 := by
  have b0 := nth_lt l 0
  have b1 := nth_lt l 1
  have b2 := nth_lt l 2
  have b3 := nth_lt l 3
  unfold dec
  split
  · dsimp only; omega
  · split
    · split <;> (dsimp only; omega)
    · split
      · split <;> (dsimp only; omega)
      · split
        · split
          · rename_i k; exact k.2.1
          · dsimp only; omega
        · dsimp only; omega

theorem dec_wid4 (l : List UInt8) : (dec l).2 ≤ 4 := by
  unfold dec; repeat' split
  all_goals (dsimp only; omega)

theorem nth_take (l : List UInt8) (k : Nat) (h : k < 4) : nth (l.take 4) k = nth l k := by
  unfold nth; rw [List.getElem?_take, if_pos h]
theorem cont_take (l : List UInt8) (k : Nat) (h : k < 4) : cont (l.take 4) k ↔ cont l k := by
  unfold cont; rw [nth_take l k h, List.length_take]; omega
/-- Four bytes are enough. -/
theorem dec_take (l : List UInt8) : dec (l.take 4) = dec l := by
  unfold dec
  simp only [nth_take l 0 (by omega), nth_take l 1 (by omega), nth_take l 2 (by omega), nth_take l 3 (by omega), cont_take l 1 (by omega), cont_take l 2 (by omega), cont_take l 3 (by omega)]

/-- The code point that bytes begin with, and its width; 0 and 0, if there is none. -/
def one (l : List UInt8) : Nat × Nat := if l = [] then (0, 0) else if (dec l).2 = wid (dec l).1 then dec l else (0, 0)

theorem one_nil : one [] = (0, 0) := rfl
theorem one_enc {c : Nat} (h : isCp c) (r : List UInt8) : one (enc c ++ r) = (c, wid c) := by
  have hp := wid_pos.2 h
  have hl := enc_len h
  unfold one
  rw [if_neg (by intro e; rw [List.append_eq_nil_iff] at e; rw [e.1] at hl; simp at hl; omega), dec_enc h, if_pos rfl]
theorem one_spec {l : List UInt8} (h : (one l).2 ≠ 0) : isCp (one l).1 ∧ (one l).2 = wid (one l).1 ∧ l = enc (one l).1 ++ l.drop (one l).2 := by
  unfold one at h ⊢
  split at h
  · exact absurd rfl h
  · rename_i hl
    rw [if_neg hl]
    split at h
    · rename_i hw
      rw [if_pos hw]
      have h1 : 1 ≤ l.length := by
        cases l with
        | nil => exact absurd rfl hl
        | cons _ _ => simp
      obtain ⟨h2, h3⟩ := dec_wid h1 hw
      refine ⟨h2, hw, ?_⟩
      rw [← h3, List.take_append_drop]
    · exact absurd rfl h
theorem one_zero {l : List UInt8} (h : (one l).2 = 0) : one l = (0, 0) := by
  unfold one at h ⊢
  split at h
  · rename_i hl; rw [if_pos hl]
  · rename_i hl
    rw [if_neg hl]
    split at h
    · rename_i hw
      have := dec_pos l
      omega
    · rename_i hw; rw [if_neg hw]
theorem one_le (l : List UInt8) : (one l).2 ≤ l.length := by
  unfold one
  split
  · simp
  · rename_i hl
    have h1 : 1 ≤ l.length := by
      cases l with
      | nil => exact absurd rfl hl
      | cons _ _ => simp
    split
    · exact dec_le l h1
    · simp

def faultF : Nat → List UInt8 → Nat → Int
  | 0, _, _ => -1
  | f + 1, l, p => if p < l.length then (if (one (l.drop p)).2 = 0 then (p : Int) else faultF f l (p + (one (l.drop p)).2)) else -1
/-- How many right bytes, at the most, l begins with, from place p on; -1, if they are all. -/
def faultAt (l : List UInt8) (p : Nat) : Int := faultF (l.length - p) l p
def fault (l : List UInt8) : Int := faultAt l 0

theorem faultF_fuel (l : List UInt8) : ∀ (f g p : Nat), l.length - p ≤ f → l.length - p ≤ g → faultF f l p = faultF g l p := by
  intro f
  induction f with
  | zero =>
    intro g p h _
    cases g with
    | zero => rfl
    | succ g => unfold faultF; rw [if_neg (by omega)]
  | succ f ih =>
    intro g p h h2
    cases g with
    | zero => unfold faultF; rw [if_neg (by omega)]
    | succ g =>
      unfold faultF
      split
      · split
        · rfl
        · exact ih g _ (by omega) (by omega)
      · rfl

theorem faultAt_end {l : List UInt8} {p : Nat} (h : l.length ≤ p) : faultAt l p = -1 := by
  unfold faultAt; rw [show l.length - p = 0 from by omega]; rfl
theorem faultAt_bad {l : List UInt8} {p : Nat} (h : p < l.length) (h0 : (one (l.drop p)).2 = 0) : faultAt l p = p := by
  unfold faultAt
  obtain ⟨g, hg⟩ : ∃ g, l.length - p = g + 1 := ⟨l.length - p - 1, by omega⟩
  rw [hg]
  unfold faultF
  rw [if_pos h, if_pos h0]
theorem faultAt_step {l : List UInt8} {p : Nat} (h : p < l.length) (h0 : (one (l.drop p)).2 ≠ 0) : faultAt l p = faultAt l (p + (one (l.drop p)).2) := by
  unfold faultAt
  obtain ⟨g, hg⟩ : ∃ g, l.length - p = g + 1 := ⟨l.length - p - 1, by omega⟩
  rw [hg]
  conv => lhs; unfold faultF
  rw [if_pos h, if_neg h0]
  exact faultF_fuel l _ _ _ (by omega) (by omega)
theorem one_drop_le (l : List UInt8) (p : Nat) (h : p ≤ l.length) : p + (one (l.drop p)).2 ≤ l.length := by
  have := one_le (l.drop p)
  rw [List.length_drop] at this
  omega

end Go.Proofs.YtipemmjbgegmfaaGreatDoor.U

/- The widths: code.Width, and the document's own Is and Width, as plain functions of a number. -/
namespace Go.Proofs.YtipemmjbgegmfaaGreatDoor
open Go.RowKit

theorem ret_int {k : IntKind} {a b : Int} (h : a = b) : Ending.returned (.int k a) = .returned (.int k b) := by rw [h]
theorem ret_bool {a b : Bool} (h : a = b) : Ending.returned (.bool a) = .returned (.bool b) := by rw [h]

/-- Is a number a code point? -/
def isB (c : Int) : Bool := decide (c ≤ 1114111) && (decide (c < 55296) || decide (57343 < c))

/-- How many bytes a code point has; 0 of other numbers. -/
def widthI (c : Int) : Int := if c < 128 then 1 else if c < 2048 then 2 else if (55296 ≤ c ∧ c ≤ 57343) ∨ 1114111 < c then 0 else if c < 65536 then 3 else 4

theorem width_code (c : Int) (w : World) : Calls Tryz.prog 46 #[.int .u32 c] w fun e w' => e = .returned (.int .i64 (widthI c)) ∧ w = w' := by
  go_enter Tryz.func46, Tryz.ntmps46
  go_wp2
  all_goals (go_ret; exact ⟨ret_int (by unfold widthI; repeat' split; all_goals omega), rfl⟩)

theorem is_ref (c : Int) (w : World) : Calls Tryz.prog 52 #[.int .u32 c] w fun e w' => e = .returned (.bool (isB c)) ∧ w = w' := by
  go_enter Tryz.func52, Tryz.ntmps52
  go_wp2
  all_goals (go_ret; exact ⟨ret_bool (by unfold isB; simp; try omega), rfl⟩)

theorem width_ref (c : Int) (w : World) : Calls Tryz.prog 49 #[.int .u32 c] w fun e w' => e = .returned (.int .i64 (widthI c)) ∧ w = w' := by
  by_cases hi : isB c = true
  · have H := Lib.hid hi; clear hi
    go_enter Tryz.func49, Tryz.ntmps49
    go_wp2_with (go_at_call 52; refine (is_ref _ _).mono ?_; rintro e w' ⟨rfl, rfl⟩; rw [H.out])
    all_goals (go_ret; exact ⟨ret_int (by have h := H.out; clear H; simp [isB] at h; unfold widthI; repeat' split; all_goals omega), rfl⟩)
  · have H := Lib.hid (show isB c = false by simpa using hi)
    clear hi
    go_enter Tryz.func49, Tryz.ntmps49
    go_wp2_with (go_at_call 52; refine (is_ref _ _).mono ?_; rintro e w' ⟨rfl, rfl⟩; rw [H.out])
    all_goals (go_ret; exact ⟨ret_int (by have h := H.out; clear H; simp [isB] at h; unfold widthI; repeat' split; all_goals omega), rfl⟩)

end Go.Proofs.YtipemmjbgegmfaaGreatDoor

/- A region that draws its order, walked once in an order of our own: what only computes or reads what was there is taken as soon as it may come up; what makes memory is met when nothing else may come up. -/
namespace Go.Proofs.YtipemmjbgegmfaaGreatDoor
open Go.RowKit

/-- From w to w' memory was only made: nothing that was there has turned. -/
def Up (w w' : World) : Prop := Below w.heap.size w w'
theorem Up.refl (w : World) : Up w w := Below.refl _ _
theorem Up.trans {a b c : World} (h : Up a b) (k : Up b c) : Up a c := Below.trans h (k.mono h.size)
theorem Up.drew {a b : World} (h : Up a b) : Up a b.drew := Below.drew h
theorem Up.drewN {a b : World} (h : Up a b) (n : Nat) : Up a (b.drewN n) := ⟨h.os, h.tape, h.output, h.size, h.block⟩
theorem Up.alloc {a b : World} (h : Up a b) (o : Obj) : Up a (b.alloc o) := Below.alloc h h.size o
theorem Up.of_drew {a b : World} (h : Up a.drew b) : Up a b := ⟨h.os, h.tape, h.output, h.size, h.block⟩
theorem Up.of_drewN {a b : World} {n : Nat} (h : Up (a.drewN n) b) : Up a b := ⟨h.os, h.tape, h.output, h.size, h.block⟩

section
variable {P : Program} {ops : Array Oper} {Q : Exit → Act → World → Prop}

theorem held_mono {md : Region.Mode} {S S' : World → Prop} (hS : ∀ w, S' w → S w) : ∀ (fuel : Nat) (listed : Array Bool) (a : Act) (w : World),
    wpAnyH P md ops Q S' fuel listed a w → wpAnyH P md ops Q S fuel listed a w
  | 0, _, _, _, h => h
  | fuel + 1, _, _, _, h => ⟨h.1, fun i hi => wpOp_mono (fun _ _ h' => ⟨hS _ h'.1, held_mono hS fuel _ _ _ h'.2⟩) (h.2 i hi)⟩

/-- May the operations be walked in this order? (true: it makes memory: nothing else may come up then.) -/
def okPi (ops : Array Oper) : List (Nat × Bool) → Array Bool → Bool
  | [], listed => (Region.ready .any ops listed).isEmpty
  | (i, b) :: π, listed => (if b then decide (Region.ready .any ops listed = [i]) else (Region.ready .any ops listed).contains i && Region.free .any ops listed i) && okPi ops π (listed.setIfInBounds i true)

/-- The walk in this order. -/
def wpPi (P : Program) (ops : Array Oper) (Q : Exit → Act → World → Prop) : List (Nat × Bool) → Act → World → Prop
  | [], a, w => Q .normal a w
  | (i, b) :: π, a, w => ∃ o, ops[i]? = some o ∧
      if Region.wanted o (yielded ops a.tmps) = true then
        (b = false ∧ ∃ v, (∀ w', Up w w' → (execOp a.eval o).run P w' = .ok (.value v) w') ∧ wpPi P ops Q π (a.put o.dst v) w) ∨
        (b = true ∧ Oper.wp P o a w (fun a' w1 => Up w w1 ∧ wpPi P ops Q π a' w1) Q)
      else wpPi P ops Q π (a.put o.dst undef) w

theorem pi_sound (hs : Region.noSelect ops = true) (hQ : ∀ c a d v w, Q (.panic c) (Act.put a d v) w → Q (.panic c) a w) : ∀ (π : List (Nat × Bool)) (listed : Array Bool) (a : Act) (w : World),
    okPi ops π listed = true → wpPi P ops Q π a w → wpAnyH P .any ops Q (Up w) π.length listed a w
  | [], listed, a, w, hB, h => by
    have : Region.ready .any ops listed = [] := by simpa [okPi] using hB
    exact ⟨this, h⟩
  | (i, b) :: π, listed, a, w, hB, h => by
    obtain ⟨o, ho, h⟩ := h
    unfold okPi at hB
    rw [Bool.and_eq_true] at hB
    obtain ⟨hB1, hB2⟩ := hB
    by_cases hw : Region.wanted o (yielded ops a.tmps) = true
    · rw [if_pos hw] at h
      rcases h with ⟨rfl, v, hv, h⟩ | ⟨rfl, h⟩
      · rw [if_neg (by decide), Bool.and_eq_true] at hB1
        exact wpAnyH_take ho hs hB1.2 hB1.1 (fun c a w h => hQ c a _ _ w h) (.inl ⟨hw, hv⟩) (Up.refl w) (pi_sound hs hQ π _ _ _ hB2 h)
      · rw [if_pos rfl] at hB1
        have hr := of_decide_eq_true hB1
        refine wpAnyH_all hr (by simp) fun j hj => ?_
        obtain rfl : j = i := by simpa using hj
        unfold wpOp
        simp only [ho]
        rw [if_pos hw]
        exact .inl (Oper.wp_mono (fun a' w1 h1 => ⟨h1.1, held_mono (fun _ h2 => h1.1.trans h2) _ _ _ _ (pi_sound hs hQ π _ _ _ hB2 h1.2)⟩) h)
    · rw [if_neg hw] at h
      have hw' : Region.wanted o (yielded ops a.tmps) = false := by simpa using hw
      cases b with
      | false =>
        rw [if_neg (by decide), Bool.and_eq_true] at hB1
        exact wpAnyH_take ho hs hB1.2 hB1.1 (fun c a w h => hQ c a _ _ w h) (.inr ⟨hw', rfl⟩) (Up.refl w) (pi_sound hs hQ π _ _ _ hB2 h)
      | true =>
        rw [if_pos rfl] at hB1
        have hr := of_decide_eq_true hB1
        refine wpAnyH_all hr (by simp) fun j hj => ?_
        obtain rfl : j = i := by simpa using hj
        unfold wpOp
        simp only [ho, hw']
        exact ⟨Up.refl w, pi_sound hs hQ π _ _ _ hB2 h⟩

/-- THE BEGINNING. -/
theorem wp_region_pi (π : List (Nat × Bool)) {id : Nat} {a : Act} {w : World} (hm : P.follows .mixedOrders = true)
    (hB : (Region.noSelect ops && decide (ops.size = π.length) && okPi ops π (Array.replicate ops.size false)) = true)
    (hQ : ∀ c a d v w, Q (.panic c) (Act.put a d v) w → Q (.panic c) a w) (h : wpPi P ops Q π a w.drew) : (Code.region id ops true).wp P Q a w := by
  simp only [Bool.and_eq_true, decide_eq_true_eq] at hB
  refine wp_region_held (S := Up w.drew) hm ?_
  have := pi_sound hB.1.1 hQ π _ a w.drew hB.2 h
  rw [← hB.1.2] at this
  exact this

/-- The operation at a place, so that it comes out written out. -/
def opAt (i : Nat) (l : List Oper) : Option Oper := match i, l with
  | _, [] => none
  | 0, o :: _ => some o
  | n + 1, _ :: r => opAt n r
theorem opAt_eq : ∀ (i : Nat) (l : List Oper), opAt i l = l[i]?
  | 0, [] => rfl
  | _ + 1, [] => rfl
  | 0, _ :: _ => rfl
  | n + 1, _ :: r => by rw [opAt, opAt_eq n r]; rfl
theorem opAt_get {i : Nat} {o : Oper} (h : opAt i ops.toList = some o) : ops[i]? = some o := by
  rw [opAt_eq, Array.getElem?_toList] at h; exact h

/-- What computes, or reads what was there. -/
theorem pi_take {i : Nat} {π : List (Nat × Bool)} {a : Act} {w : World} {o : Oper} {v : Value} (ho : opAt i ops.toList = some o) (hw : Region.wanted o (yielded ops a.tmps) = true)
    (hv : ∀ w', Up w w' → (execOp a.eval o).run P w' = .ok (.value v) w') (h : wpPi P ops Q π (a.put o.dst v) w) : wpPi P ops Q ((i, false) :: π) a w :=
  ⟨o, opAt_get ho, by rw [if_pos hw]; exact .inl ⟨rfl, v, hv, h⟩⟩
/-- What a guard shuts out. -/
theorem pi_skip {i : Nat} {b : Bool} {π : List (Nat × Bool)} {a : Act} {w : World} {o : Oper} (ho : opAt i ops.toList = some o) (hw : Region.wanted o (yielded ops a.tmps) = false)
    (h : wpPi P ops Q π (a.put o.dst undef) w) : wpPi P ops Q ((i, b) :: π) a w :=
  ⟨o, opAt_get ho, by rw [if_neg (by rw [hw]; decide)]; exact h⟩
/-- What makes memory. -/
theorem pi_make {i : Nat} {π : List (Nat × Bool)} {a : Act} {w : World} {o : Oper} (ho : opAt i ops.toList = some o) (hw : Region.wanted o (yielded ops a.tmps) = true)
    (h : ∀ K : Act → World → Prop, Hid (∀ a' w1, Up w w1 → wpPi P ops Q π a' w1 → K a' w1) → Oper.wp P o a w K Q) : wpPi P ops Q ((i, true) :: π) a w :=
  ⟨o, opAt_get ho, by rw [if_pos hw]; exact .inr ⟨rfl, h _ fun _ _ h1 h2 => ⟨h1, h2⟩⟩⟩
theorem pi_done {a : Act} {w : World} (h : Q .normal a w) : wpPi P ops Q [] a w := h

end
attribute [irreducible] wpPi
end Go.Proofs.YtipemmjbgegmfaaGreatDoor

/- Words for memory: a slice that reads as a list of cells; how it stays while memory is only made; bytes and strings; cuts. -/
namespace Go.Proofs.YtipemmjbgegmfaaGreatDoor
open Go.RowKit

theorem addr_block (a : Addr) (n : Nat) : (a.add n).block = a.block := by
  unfold Addr.add
  by_cases h : n = 0
  · rw [if_pos h]
  · rw [if_neg h]
theorem addr_add (a : Addr) (i j : Nat) : (a.add i).add j = a.add (i + j) := by
  unfold Addr.add
  by_cases hi : i = 0
  · subst hi; simp
  · by_cases hj : j = 0
    · subst hj; simp [hi]
    · simp [hi, hj, Nat.add_assoc]

/-- The slice at A, of xs.length elements and room for c, reads as the cells xs. -/
structure Rd (w : World) (A : Option Addr) (c : Nat) (xs : List Value) : Prop where
  fit : xs.length ≤ c
  max : c ≤ maxLen
  ad : 0 < c → ∃ a, A = some a ∧ a.block < w.heap.size
  nil : c = 0 → A = none ∨ ∃ a, A = some a
  cell : ∀ a, A = some a → ∀ j u, xs[j]? = some u → w.cell? (a.add j) = some u

theorem Rd.up {w w' : World} {A : Option Addr} {c : Nat} {xs : List Value} (h : Rd w A c xs) (hu : Up w w') : Rd w' A c xs := by
  refine ⟨h.fit, h.max, fun hc => ?_, h.nil, fun a ha j u hj => ?_⟩
  · obtain ⟨a, ha, hb⟩ := h.ad hc
    exact ⟨a, ha, Nat.lt_of_lt_of_le hb hu.size⟩
  · have hlen : 0 < c := by
      have := (List.getElem?_eq_some_iff.1 hj).1
      have := h.fit
      omega
    obtain ⟨a', ha', hb⟩ := h.ad hlen
    rw [ha] at ha'
    injection ha' with e
    subst e
    exact (Below.cell hu (p := a.add j) (by rw [addr_block]; exact hb)).trans (h.cell a ha j u hj)

/-- The same elements with less room. -/
theorem Rd.room {w : World} {A : Option Addr} {c c' : Nat} {xs : List Value} (h : Rd w A c xs) (h1 : xs.length ≤ c') (h2 : c' ≤ c) (_h3 : 0 < c') : Rd w A c' xs :=
  ⟨h1, by have := h.max; omega, fun _ => h.ad (by omega), fun hc => by omega, h.cell⟩

theorem Rd.empty (w : World) : Rd w none 0 [] := ⟨Nat.le_refl _, Nat.zero_le _, fun h => absurd h (by omega), fun _ => .inl rfl, fun a ha => by cases ha⟩

/-- No elements: wherever. -/
theorem Rd.zero (w : World) (A : Option Addr) : Rd w A 0 [] :=
  ⟨Nat.le_refl _, Nat.zero_le _, fun h => absurd h (by omega), fun _ => by cases A <;> simp, fun a _ j u hu => by simp at hu⟩

/-- A block that was just made. -/
theorem Rd.new (w : World) (cs : Array Value) (t : TypeId) {n : Nat} {xs : List Value} (h : xs = cs.toList) (hn : n = xs.length) (hm : n ≤ maxLen) :
    Rd (w.alloc (.cells cs t)) (some ⟨w.heap.size, 0, none⟩) n xs := by
  subst h
  refine ⟨by omega, hm, fun _ => ⟨_, rfl, by simp⟩, fun _ => .inr ⟨_, rfl⟩, fun a ha j u hu => ?_⟩
  injection ha with e
  subst e
  have hadd : (⟨w.heap.size, 0, none⟩ : Addr).add j = ⟨w.heap.size, j, none⟩ := by unfold Addr.add; split <;> simp_all
  rw [hadd, show (Obj.cells cs t) = Obj.cells cs t (0, 0) from rfl, World.cell?_alloc_mark]
  simpa using hu

/-- Cells of bytes. -/
def bs (l : List UInt8) : List Value := l.map fun b => .int .u8 (b.toNat : Int)
theorem bs_len (l : List UInt8) : (bs l).length = l.length := by simp [bs]
theorem bs_get (l : List UInt8) (j : Nat) (h : j < l.length) : (bs l)[j]? = some (.int .u8 (l[j].toNat : Int)) := by
  simp [bs, List.getElem?_eq_getElem h]
theorem bs_drop (l : List UInt8) (k : Nat) : (bs l).drop k = bs (l.drop k) := by simp [bs, List.map_drop]
theorem bs_take (l : List UInt8) (k : Nat) : (bs l).take k = bs (l.take k) := by simp [bs, List.map_take]
theorem bs_append (l m : List UInt8) : bs (l ++ m) = bs l ++ bs m := by simp [bs]

theorem uB : Tryz.prog.underlying 31 = some (.slice 5) := Tryz.underlying31
theorem uE : Tryz.prog.underlying 5 = some (.int .u8) := Tryz.underlying5
theorem uS : Tryz.prog.underlying 9 = some .string := Tryz.underlying9

/-- A text of bytes that read so. -/
theorem Rd.str {w : World} {A : Option Addr} {n c : Nat} {l : List UInt8} (h : Rd w A c (bs l)) (hn : n = l.length) :
    (convert 31 9 (.slice A n c)).run Tryz.prog w = .ok (.string ⟨l.toArray⟩) w := by
  subst hn
  cases A with
  | none =>
    have hc : c = 0 := by
      rcases Nat.eq_zero_or_pos c with h0 | h0
      · exact h0
      · obtain ⟨a, ha, _⟩ := h.ad h0; cases ha
    have hl : l = [] := by
      have := h.fit
      rw [bs_len] at this
      exact List.eq_nil_of_length_eq_zero (by omega)
    subst hl
    rw [run_convert_bytes_string w 31 9 5 none _ c uB uE uS]
    simp [Conv.bytesToString]
    rfl
  | some a => exact run_convert_bytes_back w 31 9 5 a c l uB uE uS fun j hj => h.cell a rfl j _ (bs_get l j hj)

/-- The bytes of a text: new memory. -/
theorem bytes_of (w : World) (s : ByteArray) (hs : s.size ≤ maxLen) : ∃ c w1, (convert 9 31 (.string s)).run Tryz.prog w = .ok (.slice (some ⟨w.heap.size, 0, none⟩) s.size c) w1 ∧
    Rd w1 (some ⟨w.heap.size, 0, none⟩) c (bs s.data.toList) ∧ Up w w1 ∧ w.heap.size < w1.heap.size := by
  refine ⟨_, _, run_bytes_of_string w 9 31 5 s uS uB uE, ⟨?_, grownCap_le_maxLen w _ _ _ hs, fun _ => ⟨_, rfl, by simp⟩, fun _ => .inr ⟨_, rfl⟩, ?_⟩, ?_, ?_⟩
  · rw [bs_len]; exact grownCap_ge w _ _ _
  · intro a ha j u hu
    injection ha with e
    subst e
    have hj : j < s.data.toList.length := by have := (List.getElem?_eq_some_iff.1 hu).1; rwa [bs_len] at this
    rw [bs_get _ j hj] at hu
    injection hu with e
    subst e
    have hadd : (⟨w.heap.size, 0, none⟩ : Addr).add j = ⟨w.drew.heap.size, j, none⟩ := by unfold Addr.add; split <;> simp_all
    rw [hadd, World.cell?_alloc_mark]
    exact bytesRow_at s _ j (by simpa using hj)
  · exact ((Up.refl w).drew).alloc _
  · simp

theorem uBe : Tryz.prog.underlying 31 = some (.slice (Tryz.prog.elem 31)) := by kernel_rfl
theorem szB (w : World) : (sizeOf (Tryz.prog.elem 31)).run Tryz.prog w = .ok 1 w := by kernel_rfl

/-- A part of what reads so. -/
theorem Rd.sub {w : World} {A : Option Addr} {c : Nat} {xs : List Value} (h : Rd w A c xs) {lo hi m : Nat} (h1 : lo ≤ hi) (h2 : hi ≤ xs.length) (h3 : hi ≤ m) (h4 : m ≤ c) :
    Rd w (if m = lo then A else A.map (·.add lo)) (m - lo) ((xs.drop lo).take (hi - lo)) := by
  have hf := h.fit
  refine ⟨by rw [List.length_take, List.length_drop]; omega, by have := h.max; omega, fun hc => ?_, fun _ => ?_, fun a ha j u hu => ?_⟩
  · obtain ⟨a, rfl, hb⟩ := h.ad (by omega)
    rw [if_neg (by omega)]
    exact ⟨_, rfl, by rw [addr_block]; exact hb⟩
  · cases hA : (if m = lo then A else A.map (·.add lo)) with
    | none => exact .inl rfl
    | some a => exact .inr ⟨a, rfl⟩
  · have hj : j < hi - lo := by
      have := (List.getElem?_eq_some_iff.1 hu).1
      rw [List.length_take] at this
      omega
    rw [if_neg (by omega)] at ha
    obtain ⟨a0, rfl, _⟩ := h.ad (by omega)
    injection ha with e
    subst e
    rw [addr_add]
    refine h.cell a0 rfl _ u ?_
    rw [List.getElem?_take, if_pos hj, List.getElem?_drop] at hu
    exact hu

/-- The first k, with room for no more: as the walk writes 'b[:k:k]'. -/
theorem Rd.pre {w : World} {A : Option Addr} {c : Nat} {l : List UInt8} (h : Rd w A c (bs l)) {k : Nat} (hk : k ≤ l.length) : Rd w A k (bs (l.take k)) := by
  have hf := h.fit
  rw [bs_len] at hf
  refine ⟨by rw [bs_len, List.length_take]; omega, by have := h.max; omega, fun hc => h.ad (by omega), fun _ => by cases A <;> simp, fun a ha j u hu => h.cell a ha j u ?_⟩
  have hj : j < k := by
    have := (List.getElem?_eq_some_iff.1 hu).1
    rw [bs_len, List.length_take] at this
    omega
  rwa [← bs_take, List.getElem?_take, if_pos hj] at hu

/-- The first k, with the same room: as the walk writes 'b[:k]'. -/
theorem Rd.pfx {w : World} {A : Option Addr} {c : Nat} {l : List UInt8} (h : Rd w A c (bs l)) (k : Nat) : Rd w A c (bs (l.take k)) := by
  have hf := h.fit
  rw [bs_len] at hf
  refine ⟨by rw [bs_len, List.length_take]; omega, h.max, h.ad, h.nil, fun a ha j u hu => h.cell a ha j u ?_⟩
  have hj : j < k := by
    have := (List.getElem?_eq_some_iff.1 hu).1
    rw [bs_len, List.length_take] at this
    omega
  rwa [← bs_take, List.getElem?_take, if_pos hj] at hu

/-- 'b[:k:k]' of bytes: what it yields in whatever world, and how that reads. -/
theorem Rd.head3 {w : World} {A : Option Addr} {c : Nat} {l : List UInt8} (h : Rd w A c (bs l)) (n k : Nat) (hn : n = l.length) (hk : k ≤ n) :
    ∃ A', (∀ w', (Instr.slice 31 (.slice A n c) none (some (.int .i64 k)) (some (.int .i64 k))).run Tryz.prog w' = .ok (.slice A' k k) w') ∧ Rd w A' k (bs (l.take k)) := by
  have hf := h.fit
  rw [bs_len] at hf
  refine ⟨if k = 0 then A else A.map (·.add (0 * 1)), fun w' => ?_, ?_⟩
  · rw [run_slice_hm w' 31 A n c uBe .i64 .i64 k k (by omega) (by omega) (by omega), szB]
    simp [sliced]
  · have := h.sub (lo := 0) (hi := k) (m := k) (by omega) (by rw [bs_len]; omega) (by omega) (by omega)
    rw [List.drop_zero, bs_take] at this
    simpa using this

/-- 'b[k:]' of bytes. -/
theorem Rd.tail {w : World} {A : Option Addr} {c : Nat} {l : List UInt8} (h : Rd w A c (bs l)) (n k : Nat) (hn : n = l.length) (hk : k ≤ n) :
    ∃ A', (∀ w', (Instr.slice 31 (.slice A n c) (some (.int .i64 k)) none none).run Tryz.prog w' = .ok (.slice A' (n - k) (c - k)) w') ∧ Rd w A' (c - k) (bs (l.drop k)) := by
  have hf := h.fit
  rw [bs_len] at hf
  refine ⟨if c = k then A else A.map (·.add (k * 1)), fun w' => ?_, ?_⟩
  · rw [run_slice_l w' 31 A n c uBe .i64 k (by omega) (by omega), szB]
    simp [sliced]
  · have := h.sub (lo := k) (hi := n) (m := c) hk (by rw [bs_len]; omega) (by omega) (by omega)
    rw [bs_drop, bs_take, List.take_of_length_le (by rw [List.length_drop]; omega)] at this
    simpa using this

/-- 'b[:k]' of bytes. -/
theorem Rd.head {w : World} {A : Option Addr} {c : Nat} {l : List UInt8} (h : Rd w A c (bs l)) (n k : Nat) (hn : n = l.length) (hk : k ≤ n) :
    ∃ A', (∀ w', (Instr.slice 31 (.slice A n c) none (some (.int .i64 k)) none).run Tryz.prog w' = .ok (.slice A' k c) w') ∧ Rd w A' c (bs (l.take k)) := by
  have hf := h.fit
  rw [bs_len] at hf
  refine ⟨if c = 0 then A else A.map (·.add (0 * 1)), fun w' => ?_, ?_⟩
  · rw [run_slice_h w' 31 A n c uBe .i64 k (by omega) (by omega), szB]
    simp [sliced]
  · have := h.sub (lo := 0) (hi := k) (m := c) (by omega) (by rw [bs_len]; omega) (by omega) (by omega)
    rw [List.drop_zero, bs_take] at this
    simpa using this

end Go.Proofs.YtipemmjbgegmfaaGreatDoor

/- Arguments that are slices of numbers, opened: they read as a list. -/
namespace Go.Proofs.YtipemmjbgegmfaaGreatDoor
open Go.RowKit

/-- Cells of numbers of 32 bits. -/
def us (l : List Nat) : List Value := l.map fun (n : Nat) => Value.int .u32 (n : Int)
theorem us_len (l : List Nat) : (us l).length = l.length := by simp [us]
theorem us_get (l : List Nat) (j : Nat) (h : j < l.length) : (us l)[j]? = some (.int .u32 (l[j] : Int)) := by simp [us, List.getElem?_eq_getElem h]
theorem us_take (l : List Nat) (k : Nat) : (us l).take k = us (l.take k) := by simp [us, List.map_take]
theorem us_drop (l : List Nat) (k : Nat) : (us l).drop k = us (l.drop k) := by simp [us, List.map_drop]
theorem us_append (l m : List Nat) : us (l ++ m) = us l ++ us m := by simp [us]

theorem wf_u8 {n : Int} (h : (Lit.int .u8 n).wf = true) : 0 ≤ n ∧ n < 256 := by
  have : 0 ≤ n ∧ n ≤ 255 := by simpa [Lit.wf, IntKind.min, IntKind.max, IntKind.signed, IntKind.bits] using h
  omega
theorem wf_u32 {n : Int} (h : (Lit.int .u32 n).wf = true) : 0 ≤ n ∧ n < 4294967296 := by
  have : 0 ≤ n ∧ n ≤ 4294967295 := by simpa [Lit.wf, IntKind.min, IntKind.max, IntKind.signed, IntKind.bits] using h
  omega
theorem wf_u16 {n : Int} (h : (Lit.int .u16 n).wf = true) : 0 ≤ n ∧ n < 65536 := by
  have : 0 ≤ n ∧ n ≤ 65535 := by simpa [Lit.wf, IntKind.min, IntKind.max, IntKind.signed, IntKind.bits] using h
  omega

section
variable {w : World} {x : Addr} {len cap : Nat} {zs : List Int} {k : IntKind}

theorem rd_row (hl : len ≤ cap) (hm : cap ≤ maxLen) (hz : zs.length = cap) (hcell : ∀ i, i < zs.length → w.cell? (x.add i) = some (.int k (zs.getD i 0))) :
    Rd w (some x) cap ((zs.take len).map (Value.int k)) := by
  refine ⟨by rw [List.length_map, List.length_take]; omega, hm, fun h => ⟨x, rfl, ?_⟩, fun _ => .inr ⟨x, rfl⟩, fun a ha j u hu => ?_⟩
  · have := World.block_lt_of_cell? w _ (hcell 0 (by omega))
    rwa [addr_block] at this
  · injection ha with e
    subst e
    have hj := (List.getElem?_eq_some_iff.1 hu).1
    rw [List.length_map, List.length_take] at hj
    rw [hcell j (by omega), ← hu, List.getElem?_map, List.getElem?_take, if_pos (by omega), List.getElem?_eq_getElem (by omega)]
    simp [List.getD, List.getElem?_eq_getElem (show j < zs.length by omega)]

theorem rd_u8 (hl : len ≤ cap) (hm : cap ≤ maxLen) (hz : zs.length = cap) (hcell : ∀ i, i < zs.length → w.cell? (x.add i) = some (.int .u8 (zs.getD i 0)))
    (hwz : ∀ n ∈ zs, (Lit.int .u8 n).wf = true) : ∃ l : List UInt8, l.length = len ∧ Rd w (some x) cap (bs l) := by
  have h := rd_row hl hm hz hcell
  refine ⟨(zs.take len).map fun n => UInt8.ofNat n.toNat, by rw [List.length_map, List.length_take]; omega, ?_⟩
  have e : bs ((zs.take len).map fun n => UInt8.ofNat n.toNat) = (zs.take len).map (Value.int .u8) := by
    unfold bs
    rw [List.map_map]
    refine List.map_congr_left fun n hn => ?_
    have := wf_u8 (hwz n (List.mem_of_mem_take hn))
    show Value.int .u8 ((UInt8.ofNat n.toNat).toNat : Int) = .int .u8 n
    rw [U.toNat_of _ (by omega), Int.toNat_of_nonneg this.1]
  rw [e]
  exact h

theorem rd_u32 (hl : len ≤ cap) (hm : cap ≤ maxLen) (hz : zs.length = cap) (hcell : ∀ i, i < zs.length → w.cell? (x.add i) = some (.int .u32 (zs.getD i 0)))
    (hwz : ∀ n ∈ zs, (Lit.int .u32 n).wf = true) : ∃ l : List Nat, l.length = len ∧ (∀ c ∈ l, c < 4294967296) ∧ Rd w (some x) cap (us l) := by
  have h := rd_row hl hm hz hcell
  refine ⟨(zs.take len).map Int.toNat, by rw [List.length_map, List.length_take]; omega, fun c hc => ?_, ?_⟩
  · obtain ⟨n, hn, rfl⟩ := List.mem_map.1 hc
    have := wf_u32 (hwz n (List.mem_of_mem_take hn))
    omega
  · have e : us ((zs.take len).map Int.toNat) = (zs.take len).map (Value.int .u32) := by
      unfold us
      rw [List.map_map]
      refine List.map_congr_left fun n hn => ?_
      have := wf_u32 (hwz n (List.mem_of_mem_take hn))
      show Value.int .u32 (n.toNat : Int) = .int .u32 n
      rw [Int.toNat_of_nonneg this.1]
    rw [e]
    exact h
end

/-! ### What a bound on the bulk gives -/
theorem bulk_one {H : Type} (d : DataW H) : 1 ≤ Rows.uptoBulk d := by
  cases d with
  | lit l => cases l <;> simp [Rows.uptoBulk]
  | nil => simp [Rows.uptoBulk]
  | ptr d => simp [Rows.uptoBulk]
  | slice elems spare => simp [Rows.uptoBulk]
  | agg parts => simp [Rows.uptoBulk]
  | iface t d => simp [Rows.uptoBulk]
  | map entries => simp [Rows.uptoBulk]
  | held h => simp [Rows.uptoBulk]
theorem bulk_part {H : Type} {d : DataW H} {l : List (DataW H)} (h : d ∈ l) : Rows.uptoBulk d ≤ Rows.uptoBulkAll l := by
  induction l with
  | nil => cases h
  | cons x r ih =>
    simp only [Rows.uptoBulkAll]
    rcases List.mem_cons.1 h with e | e
    · subst e; omega
    · have := ih e; omega
theorem bulk_len {H : Type} (l : List (DataW H)) : l.length ≤ Rows.uptoBulkAll l := by
  induction l with
  | nil => simp [Rows.uptoBulkAll]
  | cons x r ih => have := bulk_one x; simp only [Rows.uptoBulkAll, List.length_cons]; omega
theorem bulk_slice {H : Type} (elems spare : List (DataW H)) : elems.length + spare.length + 1 ≤ Rows.uptoBulk (.slice elems spare) := by
  have h1 := bulk_len elems
  have h2 := bulk_len spare
  simp only [Rows.uptoBulk]
  omega

end Go.Proofs.YtipemmjbgegmfaaGreatDoor

/- append onto a row of the call's own, and a copy of what came in. -/
namespace Go.Proofs.YtipemmjbgegmfaaGreatDoor
open Go.RowKit

/-- A slice type T of elements E of one cell and so many bytes. -/
structure El (T E : TypeId) (b : Nat) : Prop where
  u : Tryz.prog.underlying T = some (.slice E)
  i : ∃ i z, Tryz.prog.info? E = some i ∧ i.zero = some z ∧ i.size = 1 ∧ i.bytes = b ∧ z.cells.size = 1

theorem infoB : (Tryz.prog.info? 5).map (fun i => (i.zero, i.size, i.bytes)) = some (some (.int .u8 0), 1, 1) := by kernel_rfl
theorem infoU : (Tryz.prog.info? 28).map (fun i => (i.zero, i.size, i.bytes)) = some (some (.int .u32 0), 1, 4) := by kernel_rfl
theorem elB : El 31 5 1 := ⟨Tryz.underlying31, by obtain ⟨i, h1, h2, h3, h4⟩ := info_parts infoB; exact ⟨i, _, h1, h2, h3, h4, rfl⟩⟩
theorem elU : El 60 28 4 := ⟨Tryz.underlying60, by obtain ⟨i, h1, h2, h3, h4⟩ := info_parts infoU; exact ⟨i, _, h1, h2, h3, h4, rfl⟩⟩

theorem one_bs (l : List UInt8) : ∀ u ∈ bs l, u.oneCell' = true := by
  intro u hu
  obtain ⟨b, _, rfl⟩ := List.mem_map.1 hu
  rfl
theorem one_us (l : List Nat) : ∀ u ∈ us l, u.oneCell' = true := by
  intro u hu
  obtain ⟨b, _, rfl⟩ := List.mem_map.1 hu
  rfl

/-- What the call owns reads as a list. -/
theorem own_rd {w : World} {base : Nat} {E : TypeId} {v : Value} {n : Nat} {xs : List Value} (h : w.ownsRow base E 1 v n xs) : ∃ A c, v = .slice A n c ∧ Rd w A c xs := by
  have hl : xs.length = n := by simpa using h.1
  rcases h.2 with ⟨rfl, h0⟩ | ⟨g, cap, cur, rfl, hb, hg, hnc, hcm, hcs, ht⟩
  · subst h0
    have hx : xs = [] := List.eq_nil_of_length_eq_zero hl
    subst hx
    exact ⟨none, 0, rfl, Rd.empty w⟩
  · refine ⟨_, _, rfl, ⟨by omega, hcm, fun _ => ⟨_, rfl, (Array.getElem?_eq_some_iff.1 hg).1⟩, fun _ => .inr ⟨_, rfl⟩, fun a ha j u hu => ?_⟩⟩
    injection ha with e
    subst e
    exact h.cells (g := g) rfl j u hu

theorem run_app_nil {T E : TypeId} {b : Nat} (h : El T E b) (w : World) (ty : TypeId) {base : Nat} {v : Value} {n : Nat} {xs : List Value} (hown : w.ownsRow base E 1 v n xs) (c : Nat) :
    (Builtin.append_ #[T, T] ty #[v, .slice none 0 c]).run Tryz.prog w = .ok v w := by
  obtain ⟨i, z, hi, _⟩ := h.i
  rcases hown.2 with ⟨rfl, rfl⟩ | ⟨g, cap, cur, rfl, _, _, hnc, _⟩
  · simp [Builtin.append_, run_underlying h.u, sizeOf, typeInfo, hi, Builtin.lenOf, Builtin.firstCells]
  · simp [Builtin.append_, run_underlying h.u, sizeOf, typeInfo, hi, Builtin.lenOf, Builtin.firstCells, hnc, storeCells]

theorem El.app {T E : TypeId} {b : Nat} (h : El T E b) (w : World) (ty : TypeId) {base : Nat} {v : Value} {n : Nat} {xs : List Value} (hown : w.ownsRow base E 1 v n xs)
    {A : Option Addr} {m c : Nat} {news : List Value} (hr : Rd w A c news) (hm : m = news.length) (h1 : ∀ u ∈ news, u.oneCell' = true) (hb : (n + m) * b ≤ 140737488355328) (hb0 : 0 < b) (hbase : base ≤ w.heap.size) :
    ∃ v' w', (Builtin.append_ #[T, T] ty #[v, .slice A m c]).run Tryz.prog w = .ok v' w' ∧ w'.ownsRow base E 1 v' (n + m) (xs ++ news) ∧ w.grownBy w' v.ownBlock ∧ (v'.ownBlock = v.ownBlock ∨ v'.ownBlock = some w.heap.size) := by
  subst hm
  cases A with
  | none =>
    have hc : c = 0 := by
      rcases Nat.eq_zero_or_pos c with h0 | h0
      · exact h0
      · obtain ⟨a, ha, _⟩ := hr.ad h0; cases ha
    have hn : news = [] := by
      have := hr.fit
      exact List.eq_nil_of_length_eq_zero (by omega)
    subst hn
    exact ⟨v, w, run_app_nil h w ty hown c, by simpa using hown, ⟨rfl, rfl, rfl, Nat.le_refl _, fun _ _ _ => rfl⟩, .inl rfl⟩
  | some a =>
    obtain ⟨i, z, hi, hz, hs, hby, hzs⟩ := h.i
    have hnm : n + news.length ≤ 140737488355328 := Nat.le_trans (Nat.le_mul_of_pos_right _ hb0) hb
    obtain ⟨v', w', hrun, h2, h3, _, h5⟩ := run_append_own_at (P := Tryz.prog) w base T ty E i z 1 b h.u hi hz hs hby hzs (by omega) v n xs hown a news.length c news (by omega) (fun j u hu => hr.cell a rfl j u hu) h1 (by unfold maxLen; omega) hb hbase
    exact ⟨v', w', hrun, h2, h3, h5⟩

/-- 'append([]T{}, x...)': a copy: the literal's own block is there already. -/
theorem El.copy {T E : TypeId} {b : Nat} (h : El T E b) (w : World) (ty : TypeId) {A : Option Addr} {m c : Nat} {xs : List Value} (hr : Rd w A c xs) (hm : m = xs.length) (h1 : ∀ u ∈ xs, u.oneCell' = true) (hb : m * b ≤ 140737488355328) (hb0 : 0 < b) :
    ∃ A' c' w', (Builtin.append_ #[T, T] ty #[.slice (some ⟨w.heap.size, 0, none⟩) 0 0, .slice A m c]).run Tryz.prog (w.alloc (.cells #[] E)) = .ok (.slice A' m c') w' ∧ Rd w' A' c' xs ∧ Up w w' ∧ w'.ownsRow w.heap.size E 1 (.slice A' m c') m xs := by
  have hown : (w.alloc (.cells #[] E)).ownsRow w.heap.size E 1 (.slice (some ⟨w.heap.size, 0, none⟩) 0 0) 0 [] := World.ownsRow_made w #[] 0 (Nat.le_refl _) (Nat.zero_le _) rfl
  obtain ⟨v', w', hrun, h2, h3, _⟩ := h.app (w.alloc (.cells #[] E)) ty hown (hr.up ((Up.refl w).alloc _)) hm h1 (by simpa using hb) hb0 (by simp)
  obtain ⟨A', c', rfl, hrd⟩ := own_rd h2
  simp only [Nat.zero_add, List.nil_append] at hrun hrd h2
  refine ⟨A', c', w', hrun, hrd, ?_, h2⟩
  exact Below.grown ((Up.refl w).alloc _) h3 (by simp) (fun k hk => by simp [Value.ownBlock] at hk; omega)

/-- append at the operation, from what its run is known to be: in a list of operations, and in a region that draws. -/
theorem wp_app {P : Program} {o : Oper} {a : Act} {w w' : World} {K : Act → World → Prop} {Q : Exit → Act → World → Prop} (s x : Operand) (t : TypeId)
    (ho : o.op = .call { callee := .builtin .append, args := #[s, x], argTypes := #[t, t] }) {v y v' : Value} (hs : a.eval s = v) (hx : a.eval x = y)
    (hrun : (Builtin.append_ #[t, t] o.type #[v, y]).run P w = .ok v' w') (h : K (a.put o.dst v') w') : o.wp P a w K Q := by
  unfold Oper.wp execOp
  simp only [ho, resolve, invoke, builtin, Sem.run_bind, Sem.run_pure, Result.andThen_ok, List.map_toArray, List.map_cons, List.map_nil, hs, hx, hrun]
  exact h
theorem wpList_app {P : Program} {ops : Array Oper} {rest : List Oper} {o : Oper} {a : Act} {w w' : World} {Q : Exit → Act → World → Prop} (hw : Region.wanted o (yielded ops a.tmps) = true) (s x : Operand) (t : TypeId)
    (ho : o.op = .call { callee := .builtin .append, args := #[s, x], argTypes := #[t, t] }) {v y v' : Value} (hs : a.eval s = v) (hx : a.eval x = y)
    (hrun : (Builtin.append_ #[t, t] o.type #[v, y]).run P w = .ok v' w') (h : wpList P ops Q rest (a.put o.dst v') w') : wpList P ops Q (o :: rest) a w :=
  BigFrame.wpList_want hw fun _ hK => wp_app s x t ho hs hx hrun (hK _ _ h)

/-- A smaller base. -/
theorem own_base {w : World} {base base' : Nat} {e : TypeId} {size : Nat} {v : Value} {n : Nat} {xs : List Value} (h : w.ownsRow base e size v n xs) (hb : base' ≤ base) : w.ownsRow base' e size v n xs := by
  refine ⟨h.1, ?_⟩
  rcases h.2 with hn | ⟨b, cap, cur, rfl, hb2, rest⟩
  · exact .inl hn
  · exact .inr ⟨b, cap, cur, rfl, by omega, rest⟩

end Go.Proofs.YtipemmjbgegmfaaGreatDoor

/- What a call made itself: kept over other calls; appended to; handed on. -/
namespace Go.Proofs.YtipemmjbgegmfaaGreatDoor
open Go.RowKit

theorem Up.gb {w w' : World} (h : Up w w') : w.grownBy w' none := ⟨h.os, h.tape, h.output, h.size, fun k hk _ => h.block k hk⟩
theorem own_up {w w' : World} {base : Nat} {E : TypeId} {v : Value} {n : Nat} {xs : List Value} (h : w.ownsRow base E 1 v n xs) (hu : Up w w') : w'.ownsRow base E 1 v n xs :=
  h.kept hu.gb (by cases v.ownBlock <;> simp)
theorem Up.own {w wr w' : World} {row : Option Nat} (h : Up w wr) (hg : wr.grownBy w' row) (hr : ∀ k, row = some k → w.heap.size ≤ k) : Up w w' := Below.grown h hg h.size hr

/-- append of a literal's elements: the literal's own block is there already. -/
theorem El.push {T E : TypeId} {b : Nat} (h : El T E b) (w : World) (ty : TypeId) {base : Nat} {v : Value} {n : Nat} {xs : List Value} (hown : w.ownsRow base E 1 v n xs) (cs : Array Value) (m : Nat) (hm : m = cs.toList.length) (hm2 : m ≤ 1000) (hx : ∀ u ∈ cs.toList, u.oneCell' = true)
    (hb : (n + m) * b ≤ 140737488355328) (hb0 : 0 < b) (hbase : base ≤ w.heap.size) :
    ∃ v' w', (Builtin.append_ #[T, T] ty #[v, .slice (some ⟨w.heap.size, 0, none⟩) m m]).run Tryz.prog (w.alloc (.cells cs E)) = .ok v' w' ∧ w'.ownsRow base E 1 v' (n + m) (xs ++ cs.toList) ∧
      (w.alloc (.cells cs E)).grownBy w' v.ownBlock := by
  obtain ⟨v', w', h1, h2, h3, _⟩ := h.app (m := m) (news := cs.toList) (w.alloc (.cells cs E)) ty (hown.alloc _) (Rd.new (n := m) w cs E rfl (by omega) (by unfold maxLen; omega)) hm hx hb hb0 (by simp; omega)
  exact ⟨v', w', h1, h2, h3⟩

/-- A list of numbers that a call made in w hands back in w'. -/
def Gives (l : List Nat) (w : World) (e : Ending) (w' : World) : Prop :=
  ∃ A d, e = .returned (.slice A l.length d) ∧ w'.ownsRow w.heap.size 28 1 (.slice A l.length d) l.length (us l) ∧ Up w w'
theorem Gives.of {l : List Nat} {w w' : World} {v : Value} {n : Nat} (hn : n = l.length) (h : w'.ownsRow w.heap.size 28 1 v n (us l)) (hu : Up w w') : Gives l w (.returned v) w' := by
  obtain ⟨A, d, rfl, _⟩ := own_rd h
  subst hn
  exact ⟨A, d, rfl, h, hu⟩
theorem own_read {w : World} {base : Nat} {E : TypeId} {A : Option Addr} {n d : Nat} {xs : List Value} (h : w.ownsRow base E 1 (.slice A n d) n xs) : Rd w A d xs := by
  obtain ⟨A', c, e, hr⟩ := own_rd h
  injection e with e1 _ e3
  subst e1 e3
  exact hr
/-- A literal of numbers. -/
theorem own_lit (w : World) (l : List Nat) (n : Nat) (hn : n = l.length) (hm : n ≤ 1000) : (w.alloc (.cells (us l).toArray 28)).ownsRow w.heap.size 28 1 (.slice (some ⟨w.heap.size, 0, none⟩) n n) n (us l) := by
  subst hn
  have := World.ownsRow_lit (base := w.heap.size) (size := 1) (e := 28) w (us l).toArray l.length (Nat.le_refl _) (by unfold maxLen; omega) (by simp [us])
  simpa [us] using this

/-- What a call owns lies at the head of a block of its own. -/
theorem own_addr {w : World} {base : Nat} {E : TypeId} {A : Option Addr} {n d : Nat} {xs : List Value} (h : w.ownsRow base E 1 (.slice A n d) n xs) (hn : 0 < n) :
    ∃ g, A = some ⟨g, 0, none⟩ ∧ base ≤ g ∧ g < w.heap.size := by
  rcases h.2 with ⟨e, h0⟩ | ⟨g, cap, cur, e, hb, hg, _⟩
  · omega
  · injection e with e1 _ _
    exact ⟨g, e1, hb, (Array.getElem?_eq_some_iff.1 hg).1⟩
theorem Up.setCell {w wr : World} (h : Up w wr) {g : Nat} (hg : w.heap.size ≤ g) (j : Nat) (u : Value) : Up w (wr.setCell ⟨g, j, none⟩ u) := Below.setCell h hg u
theorem us_set (l : List Nat) (j : Nat) (z : Int) (hz : 0 ≤ z) : (us l).set j (.int .u32 z) = us (l.set j z.toNat) := by
  unfold us
  rw [List.map_set, Int.toNat_of_nonneg hz]

/-- 'append([]T{}, x...)' where the literal was made a while ago. -/
theorem own_empty (w : World) (E : TypeId) : (w.alloc (.cells #[] E)).ownsRow w.heap.size E 1 (.slice (some ⟨w.heap.size, 0, none⟩) 0 0) 0 [] := World.ownsRow_made w #[] 0 (Nat.le_refl _) (Nat.zero_le _) rfl
/-- append of numbers that read so. -/
theorem app_us {w : World} {base : Nat} {v : Value} {n : Nat} {xs : List Nat} (hown : w.ownsRow base 28 1 v n (us xs)) {A : Option Addr} {m c : Nat} {ys : List Nat} (hr : Rd w A c (us ys)) (hm : m = ys.length) (hb : n + m ≤ 30000000000000) (hbase : base ≤ w.heap.size) :
    ∃ B d w', (Builtin.append_ #[60, 60] 60 #[v, .slice A m c]).run Tryz.prog w = .ok (.slice B (n + m) d) w' ∧ w'.ownsRow base 28 1 (.slice B (n + m) d) (n + m) (us (xs ++ ys)) ∧ (∀ u, base = u.heap.size → Up u w → Up u w') := by
  obtain ⟨v', w4, hap, hown4, hg, _⟩ := elU.app (m := m) w 60 hown hr (by rw [us_len]; exact hm) (one_us ys) (by omega) (by omega) hbase
  rw [← us_append] at hown4
  obtain ⟨B, d, rfl, _⟩ := own_rd hown4
  exact ⟨B, d, w4, hap, hown4, fun u hu hup => hup.own hg (fun g hg => by have := (hown.lt g hg).1; omega)⟩

/-- What turns in memory that a call made: one element. -/
theorem own_bump {w : World} {base g n d : Nat} {ys : List Nat} (h : w.ownsRow base 28 1 (.slice (some ⟨g, 0, none⟩) n d) n (us ys)) (k : Nat) (z : Int) (hz : 0 ≤ z) :
    (w.setCell ⟨g, k, none⟩ (.int .u32 z)).ownsRow base 28 1 (.slice (some ⟨g, 0, none⟩) n d) n (us (ys.set k z.toNat)) := by
  have := (h.stored k (.int .u32 z)).1
  rwa [us_set _ _ _ hz] at this

theorem us_mid (P Q : List Nat) (x : Nat) : (us (P ++ x :: Q))[P.length]? = some (.int .u32 (x : Int)) := by
  unfold us
  rw [List.map_append, List.getElem?_append_right (by simp), List.length_map, Nat.sub_self]
  rfl
theorem own_mid {w : World} {base g n d : Nat} {P Q : List Nat} {x : Nat} (h : w.ownsRow base 28 1 (.slice (some ⟨g, 0, none⟩) n d) n (us (P ++ x :: Q))) {q : Nat} (hq : P.length = q) : w.cell? ⟨g, q, none⟩ = some (.int .u32 (x : Int)) := by
  subst hq
  have hl := h.1
  rw [us_len, List.length_append, List.length_cons] at hl
  rw [h.cellAt P.length (by omega), us_mid]

end Go.Proofs.YtipemmjbgegmfaaGreatDoor

/- A list of whole numbers (int) that a call made itself. -/
namespace Go.Proofs.YtipemmjbgegmfaaGreatDoor
open Go.RowKit

/-- A list of classes that a call made in w hands back. -/
def ks (l : List Nat) : List Value := l.map fun (n : Nat) => .int .i64 (n : Int)
theorem ks_len (l : List Nat) : (ks l).length = l.length := by simp [ks]
theorem ks_get (l : List Nat) (k : Nat) (h : k < l.length) : (ks l)[k]? = some (.int .i64 (l[k] : Int)) := by simp [ks, h]
theorem ks_append (a b : List Nat) : ks (a ++ b) = ks a ++ ks b := by simp [ks]
theorem ks_drop (l : List Nat) (n : Nat) : (ks l).drop n = ks (l.drop n) := by simp [ks, List.map_drop]
theorem ks_set (l : List Nat) (j z : Nat) : (ks l).set j (.int .i64 (z : Int)) = ks (l.set j z) := by
  unfold ks
  rw [List.map_set]
theorem ks_mid (P Q : List Nat) (x : Nat) : (ks (P ++ x :: Q))[P.length]? = some (.int .i64 (x : Int)) := by
  unfold ks
  rw [List.map_append, List.getElem?_append_right (by simp), List.length_map, Nat.sub_self]
  rfl
theorem ks_zero (n : Nat) : List.replicate n (Value.int .i64 0) = ks (List.replicate n 0) := by simp [ks]
theorem owk_mid {w : World} {base g n d : Nat} {P Q : List Nat} {x : Nat} (h : w.ownsRow base 3 1 (.slice (some ⟨g, 0, none⟩) n d) n (ks (P ++ x :: Q))) {q : Nat} (hq : P.length = q) : w.cell? ⟨g, q, none⟩ = some (.int .i64 (x : Int)) := by
  subst hq
  have hl := h.1
  rw [ks_len, List.length_append, List.length_cons] at hl
  rw [h.cellAt P.length (by omega), ks_mid]
/-- What turns in memory that a call made: one element. -/
theorem owk_bump {w : World} {base g n d : Nat} {ys : List Nat} (h : w.ownsRow base 3 1 (.slice (some ⟨g, 0, none⟩) n d) n (ks ys)) (k z : Nat) :
    (w.setCell ⟨g, k, none⟩ (.int .i64 (z : Int))).ownsRow base 3 1 (.slice (some ⟨g, 0, none⟩) n d) n (ks (ys.set k z)) := by
  have := (h.stored k (.int .i64 (z : Int))).1
  rwa [ks_set] at this
def GivesK (l : List Nat) (w : World) (e : Ending) (w' : World) : Prop :=
  ∃ A d, e = .returned (.slice A l.length d) ∧ w'.ownsRow w.heap.size 3 1 (.slice A l.length d) l.length (ks l) ∧ Up w w'

end Go.Proofs.YtipemmjbgegmfaaGreatDoor

/- The document's Same: whether two lists are one. -/
namespace Go.Proofs.YtipemmjbgegmfaaGreatDoor
open Go.RowKit

theorem take_eq_of (l m : List Nat) (k : Nat) (h : l.take k = m.take k) (hl : k < l.length) (hm : k < m.length) : (l = m → l[k] = m[k]) ∧ (l[k] = m[k] → l.take (k + 1) = m.take (k + 1)) := by
  refine ⟨fun e => by subst e; rfl, fun e => ?_⟩
  rw [List.take_succ_eq_append_getElem hl, List.take_succ_eq_append_getElem hm, h, e]

end Go.Proofs.YtipemmjbgegmfaaGreatDoor
