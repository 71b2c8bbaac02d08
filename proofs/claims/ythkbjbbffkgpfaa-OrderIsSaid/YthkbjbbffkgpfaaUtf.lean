/- UTF-8, plain: what a text's first bytes decode to, and what a number's bytes are. No program is met here. -/
import GoSem.Core.Utf8
namespace Go.Proofs.Ythkbjbbffkgpfaa.U

def isCp (c : Nat) : Prop := c ≤ 1114111 ∧ ¬(55296 ≤ c ∧ c ≤ 57343)
instance (c : Nat) : Decidable (isCp c) := by unfold isCp; exact inferInstance

def wid (c : Nat) : Nat := if c < 128 then 1 else if c < 2048 then 2 else if (55296 ≤ c ∧ c ≤ 57343) ∨ 1114111 < c then 0 else if c < 65536 then 3 else 4

def enc (c : Nat) : List UInt8 :=
  if c < 128 then [UInt8.ofNat c]
  else if c < 2048 then [UInt8.ofNat (192 + c / 64), UInt8.ofNat (128 + c % 64)]
  else if c < 65536 then [UInt8.ofNat (224 + c / 4096), UInt8.ofNat (128 + c / 64 % 64), UInt8.ofNat (128 + c % 64)]
  else [UInt8.ofNat (240 + c / 262144), UInt8.ofNat (128 + c / 4096 % 64), UInt8.ofNat (128 + c / 64 % 64), UInt8.ofNat (128 + c % 64)]

theorem wid_pos {c : Nat} : 0 < wid c ↔ isCp c := by
  unfold wid isCp; repeat' split
  all_goals omega
theorem wid_le (c : Nat) : wid c ≤ 4 := by unfold wid; repeat' split
                                           all_goals omega
theorem enc_len {c : Nat} (h : isCp c) : (enc c).length = wid c := by
  unfold isCp at h; unfold enc wid; repeat' split
  all_goals first | rfl | omega

theorem encode_eq {c : Nat} (h : isCp c) : (Utf8.encode (c : Int)).data.toList = enc c := by
  have hv : Utf8.valid (c : Int) = true := by unfold isCp at h; unfold Utf8.valid; simp; omega
  simp only [Utf8.encode, hv, if_true, Int.toNat_natCast, enc]
  by_cases h1 : c < 128
  · simp only [h1, if_true]
  · by_cases h2 : c < 2048
    · simp only [h1, h2, if_true, if_false]
    · by_cases h3 : c < 65536
      · simp only [h1, h2, h3, if_true, if_false]
      · simp only [h1, h2, h3, if_false]

/-- The k-th byte, 0 beyond. -/
def nth (l : List UInt8) (k : Nat) : Nat := (l[k]?.getD 0).toNat
def cont (l : List UInt8) (k : Nat) : Prop := k < l.length ∧ nth l k / 64 = 2
instance (l : List UInt8) (k : Nat) : Decidable (cont l k) := by unfold cont; exact inferInstance

def dec (l : List UInt8) : Nat × Nat :=
  if nth l 0 < 128 then (nth l 0, 1)
  else if nth l 0 / 32 = 6 ∧ cont l 1 then
    (if 128 ≤ nth l 0 % 32 * 64 + nth l 1 % 64 then (nth l 0 % 32 * 64 + nth l 1 % 64, 2) else (65533, 1))
  else if nth l 0 / 16 = 14 ∧ cont l 1 ∧ cont l 2 then
    (if 2048 ≤ nth l 0 % 16 * 4096 + nth l 1 % 64 * 64 + nth l 2 % 64 ∧ isCp (nth l 0 % 16 * 4096 + nth l 1 % 64 * 64 + nth l 2 % 64) then (nth l 0 % 16 * 4096 + nth l 1 % 64 * 64 + nth l 2 % 64, 3) else (65533, 1))
  else if nth l 0 / 8 = 30 ∧ cont l 1 ∧ cont l 2 ∧ cont l 3 then
    (if 65536 ≤ nth l 0 % 8 * 262144 + nth l 1 % 64 * 4096 + nth l 2 % 64 * 64 + nth l 3 % 64 ∧ isCp (nth l 0 % 8 * 262144 + nth l 1 % 64 * 4096 + nth l 2 % 64 * 64 + nth l 3 % 64) then (nth l 0 % 8 * 262144 + nth l 1 % 64 * 4096 + nth l 2 % 64 * 64 + nth l 3 % 64, 4) else (65533, 1))
  else (65533, 1)

theorem valid_iff (c : Nat) : Utf8.valid (c : Int) = true ↔ isCp c := by
  unfold Utf8.valid isCp; simp; omega

theorem get_nth (s : ByteArray) (i k : Nat) : (s.get! (i + k)).toNat = nth (s.data.toList.drop i) k := by
  unfold nth
  rw [List.getElem?_drop, Array.getElem?_toList]
  congr 1
  show s.data[i + k]! = _
  rw [Array.getElem!_eq_getD]
  simp only [Array.getD_eq_getD_getElem?]
  rfl

theorem decode_eq (s : ByteArray) (i : Nat) : Utf8.decode s i = dec (s.data.toList.drop i) := by
  unfold Utf8.decode dec cont
  simp only [get_nth, List.length_drop, Array.length_toList, Utf8.runeError, Bool.and_eq_true, beq_iff_eq, decide_eq_true_eq, valid_iff, ge_iff_le]
  have h1 : ∀ k, (i + k < s.size) = (k < s.data.size - i) := fun k => by
    apply propext; show i + k < s.data.size ↔ _; omega
  simp only [h1, and_assoc]


theorem wid_isCp {c : Nat} (h : isCp c) : wid c = if c < 128 then 1 else if c < 2048 then 2 else if c < 65536 then 3 else 4 := by
  unfold isCp at h; unfold wid; repeat' split
  all_goals omega

theorem toNat_of (n : Nat) (h : n < 256) : (UInt8.ofNat n).toNat = n := by
  rw [UInt8.toNat_ofNat']; exact Nat.mod_eq_of_lt h

/-- A code point's bytes decode to it. -/
theorem dec_enc {c : Nat} (h : isCp c) (r : List UInt8) : dec (enc c ++ r) = (c, wid c) := by
  have hc := h.1
  rw [wid_isCp h]
  by_cases h1 : c < 128
  · have e : enc c = [UInt8.ofNat c] := by unfold enc; rw [if_pos h1]
    have n0 : nth (enc c ++ r) 0 = c := by rw [e]; show (UInt8.ofNat c).toNat = c; exact toNat_of _ (by omega)
    unfold dec
    rw [n0, if_pos h1, if_pos h1]
  · by_cases h2 : c < 2048
    · have e : enc c = [UInt8.ofNat (192 + c / 64), UInt8.ofNat (128 + c % 64)] := by unfold enc; rw [if_neg h1, if_pos h2]
      have n0 : nth (enc c ++ r) 0 = 192 + c / 64 := by rw [e]; show (UInt8.ofNat _).toNat = _; exact toNat_of _ (by omega)
      have n1 : nth (enc c ++ r) 1 = 128 + c % 64 := by rw [e]; show (UInt8.ofNat _).toNat = _; exact toNat_of _ (by omega)
      have l1 : 2 ≤ (enc c ++ r).length := by rw [e]; simp
      have q1 : cont (enc c ++ r) 1 := ⟨by omega, by rw [n1]; omega⟩
      unfold dec
      rw [n0, n1, if_neg (by omega), if_pos ⟨by omega, q1⟩, if_pos (by omega), if_neg h1, if_pos h2]
      rw [show (192 + c / 64) % 32 * 64 + (128 + c % 64) % 64 = c from by omega]
    · by_cases h3 : c < 65536
      · have e : enc c = [UInt8.ofNat (224 + c / 4096), UInt8.ofNat (128 + c / 64 % 64), UInt8.ofNat (128 + c % 64)] := by unfold enc; rw [if_neg h1, if_neg h2, if_pos h3]
        have n0 : nth (enc c ++ r) 0 = 224 + c / 4096 := by rw [e]; show (UInt8.ofNat _).toNat = _; exact toNat_of _ (by omega)
        have n1 : nth (enc c ++ r) 1 = 128 + c / 64 % 64 := by rw [e]; show (UInt8.ofNat _).toNat = _; exact toNat_of _ (by omega)
        have n2 : nth (enc c ++ r) 2 = 128 + c % 64 := by rw [e]; show (UInt8.ofNat _).toNat = _; exact toNat_of _ (by omega)
        have l1 : 3 ≤ (enc c ++ r).length := by rw [e]; simp
        have q1 : cont (enc c ++ r) 1 := ⟨by omega, by rw [n1]; omega⟩
        have q2 : cont (enc c ++ r) 2 := ⟨by omega, by rw [n2]; omega⟩
        have ee : (224 + c / 4096) % 16 * 4096 + (128 + c / 64 % 64) % 64 * 64 + (128 + c % 64) % 64 = c := by omega
        unfold dec
        rw [n0, n1, n2, if_neg (by omega), if_neg (by omega), if_pos ⟨by omega, q1, q2⟩, ee, if_pos ⟨by omega, h⟩, if_neg h1, if_neg h2, if_pos h3]
      · have e : enc c = [UInt8.ofNat (240 + c / 262144), UInt8.ofNat (128 + c / 4096 % 64), UInt8.ofNat (128 + c / 64 % 64), UInt8.ofNat (128 + c % 64)] := by unfold enc; rw [if_neg h1, if_neg h2, if_neg h3]
        have n0 : nth (enc c ++ r) 0 = 240 + c / 262144 := by rw [e]; show (UInt8.ofNat _).toNat = _; exact toNat_of _ (by omega)
        have n1 : nth (enc c ++ r) 1 = 128 + c / 4096 % 64 := by rw [e]; show (UInt8.ofNat _).toNat = _; exact toNat_of _ (by omega)
        have n2 : nth (enc c ++ r) 2 = 128 + c / 64 % 64 := by rw [e]; show (UInt8.ofNat _).toNat = _; exact toNat_of _ (by omega)
        have n3 : nth (enc c ++ r) 3 = 128 + c % 64 := by rw [e]; show (UInt8.ofNat _).toNat = _; exact toNat_of _ (by omega)
        have l1 : 4 ≤ (enc c ++ r).length := by rw [e]; simp
        have q1 : cont (enc c ++ r) 1 := ⟨by omega, by rw [n1]; omega⟩
        have q2 : cont (enc c ++ r) 2 := ⟨by omega, by rw [n2]; omega⟩
        have q3 : cont (enc c ++ r) 3 := ⟨by omega, by rw [n3]; omega⟩
        have ee : (240 + c / 262144) % 8 * 262144 + (128 + c / 4096 % 64) % 64 * 4096 + (128 + c / 64 % 64) % 64 * 64 + (128 + c % 64) % 64 = c := by omega
        unfold dec
        rw [n0, n1, n2, n3, if_neg (by omega), if_neg (by omega), if_neg (by omega), if_pos ⟨by omega, q1, q2, q3⟩, ee, if_pos ⟨by omega, h⟩, if_neg h1, if_neg h2, if_neg h3]

theorem nth_lt (l : List UInt8) (k : Nat) : nth l k < 256 := by unfold nth; exact UInt8.toNat_lt _
theorem nth_get (l : List UInt8) (k : Nat) (h : k < l.length) : l[k] = UInt8.ofNat (nth l k) := by
  unfold nth; rw [List.getElem?_eq_getElem h]; simp
theorem take_nth1 (l : List UInt8) (h : 1 ≤ l.length) : l.take 1 = [UInt8.ofNat (nth l 0)] := by
  match l, h with | a :: _, _ => simp [nth]
theorem take_nth2 (l : List UInt8) (h : 2 ≤ l.length) : l.take 2 = [UInt8.ofNat (nth l 0), UInt8.ofNat (nth l 1)] := by
  match l, h with | a :: b :: _, _ => simp [nth]
theorem take_nth3 (l : List UInt8) (h : 3 ≤ l.length) : l.take 3 = [UInt8.ofNat (nth l 0), UInt8.ofNat (nth l 1), UInt8.ofNat (nth l 2)] := by
  match l, h with | a :: b :: c :: _, _ => simp [nth]
theorem take_nth4 (l : List UInt8) (h : 4 ≤ l.length) : l.take 4 = [UInt8.ofNat (nth l 0), UInt8.ofNat (nth l 1), UInt8.ofNat (nth l 2), UInt8.ofNat (nth l 3)] := by
  match l, h with | a :: b :: c :: d :: _, _ => simp [nth]

theorem dec_pos (l : List UInt8) : 1 ≤ (dec l).2 := by
  unfold dec; repeat' split
  all_goals simp
theorem dec_le (l : List UInt8) (h : 1 ≤ l.length) : (dec l).2 ≤ l.length := by
  unfold dec cont; repeat' split
  all_goals simp only
  all_goals omega

/-- What decodes to as many bytes as it has is a code point, and these are its bytes. -/
theorem dec_wid {l : List UInt8} (h0 : 1 ≤ l.length) (h : (dec l).2 = wid (dec l).1) : isCp (dec l).1 ∧ l.take (dec l).2 = enc (dec l).1 := by
  have hp := dec_pos l
  have hcp : isCp (dec l).1 := wid_pos.1 (by omega)
  refine ⟨hcp, ?_⟩
  rw [wid_isCp hcp] at h
  have b0 := nth_lt l 0
  have b1 := nth_lt l 1
  have b2 := nth_lt l 2
  have b3 := nth_lt l 3
  revert h hcp
  clear hp
  unfold dec
  split
  · intro h hcp
    dsimp only
    unfold enc
    rw [take_nth1 l h0, if_pos (by assumption)]
  · split
    · rename_i _ g
      obtain ⟨g1, g2, g3⟩ := g
      split
      · intro hcp h
        dsimp only at *
        generalize hc : nth l 0 % 32 * 64 + nth l 1 % 64 = c at *
        unfold enc
        rw [take_nth2 l (by omega), if_neg (by omega), if_pos (by omega)]
        rw [show 192 + c / 64 = nth l 0 from by omega, show 128 + c % 64 = nth l 1 from by omega]
      · intro hcp h; simp at hcp
    · split
      · rename_i _ _ g
        obtain ⟨g1, ⟨g2, g3⟩, g4, g5⟩ := g
        split
        · rename_i k
          have k1 := k.1
          intro hcp h
          dsimp only at *
          generalize hc : nth l 0 % 16 * 4096 + nth l 1 % 64 * 64 + nth l 2 % 64 = c at *
          unfold enc
          rw [take_nth3 l (by omega), if_neg (by omega), if_neg (by omega), if_pos (by omega)]
          rw [show 224 + c / 4096 = nth l 0 from by omega, show 128 + c / 64 % 64 = nth l 1 from by omega, show 128 + c % 64 = nth l 2 from by omega]
        · intro hcp h; simp at hcp
      · split
        · rename_i _ _ _ g
          obtain ⟨g1, ⟨g2, g3⟩, ⟨g4, g5⟩, g6, g7⟩ := g
          split
          · rename_i k
            have k1 := k.1
            intro hcp h
            dsimp only at *
            generalize hc : nth l 0 % 8 * 262144 + nth l 1 % 64 * 4096 + nth l 2 % 64 * 64 + nth l 3 % 64 = c at *
            unfold enc
            rw [take_nth4 l (by omega), if_neg (by omega), if_neg (by omega), if_neg (by omega)]
            rw [show 240 + c / 262144 = nth l 0 from by omega, show 128 + c / 4096 % 64 = nth l 1 from by omega, show 128 + c / 64 % 64 = nth l 2 from by omega, show 128 + c % 64 = nth l 3 from by omega]
          · intro hcp h; simp at hcp
        · intro hcp h; simp at hcp

theorem dec_cp_le (l : List UInt8) : (dec l).1 ≤ 1114111 := by
  have b0 := nth_lt l 0
  have b1 := nth_lt l 1
  have b2 := nth_lt l 2
  have b3 := nth_lt l 3
  unfold dec
  split
  · dsimp only; omega
  · split
    · split <;> (dsimp only; omega)
    · split
      · split <;> (dsimp only; omega)
      · split
        · split
          · rename_i k; exact k.2.1
          · dsimp only; omega
        · dsimp only; omega

theorem dec_wid4 (l : List UInt8) : (dec l).2 ≤ 4 := by
  unfold dec; repeat' split
  all_goals (dsimp only; omega)

theorem nth_take (l : List UInt8) (k : Nat) (h : k < 4) : nth (l.take 4) k = nth l k := by
  unfold nth; rw [List.getElem?_take, if_pos h]
theorem cont_take (l : List UInt8) (k : Nat) (h : k < 4) : cont (l.take 4) k ↔ cont l k := by
  unfold cont; rw [nth_take l k h, List.length_take]; omega
/-- Four bytes are enough. -/
theorem dec_take (l : List UInt8) : dec (l.take 4) = dec l := by
  unfold dec
  simp only [nth_take l 0 (by omega), nth_take l 1 (by omega), nth_take l 2 (by omega), nth_take l 3 (by omega), cont_take l 1 (by omega), cont_take l 2 (by omega), cont_take l 3 (by omega)]

/-- The code point that bytes begin with, and its width; 0 and 0, if there is none. -/
def one (l : List UInt8) : Nat × Nat := if l = [] then (0, 0) else if (dec l).2 = wid (dec l).1 then dec l else (0, 0)

theorem one_nil : one [] = (0, 0) := rfl
theorem one_enc {c : Nat} (h : isCp c) (r : List UInt8) : one (enc c ++ r) = (c, wid c) := by
  have hp := wid_pos.2 h
  have hl := enc_len h
  unfold one
  rw [if_neg (by intro e; rw [List.append_eq_nil_iff] at e; rw [e.1] at hl; simp at hl; omega), dec_enc h, if_pos rfl]
theorem one_spec {l : List UInt8} (h : (one l).2 ≠ 0) : isCp (one l).1 ∧ (one l).2 = wid (one l).1 ∧ l = enc (one l).1 ++ l.drop (one l).2 := by
  unfold one at h ⊢
  split at h
  · exact absurd rfl h
  · rename_i hl
    rw [if_neg hl]
    split at h
    · rename_i hw
      rw [if_pos hw]
      have h1 : 1 ≤ l.length := by
        cases l with
        | nil => exact absurd rfl hl
        | cons _ _ => simp
      obtain ⟨h2, h3⟩ := dec_wid h1 hw
      refine ⟨h2, hw, ?_⟩
      rw [← h3, List.take_append_drop]
    · exact absurd rfl h
theorem one_zero {l : List UInt8} (h : (one l).2 = 0) : one l = (0, 0) := by
  unfold one at h ⊢
  split at h
  · rename_i hl; rw [if_pos hl]
  · rename_i hl
    rw [if_neg hl]
    split at h
    · rename_i hw
      have := dec_pos l
      omega
    · rename_i hw; rw [if_neg hw]
theorem one_le (l : List UInt8) : (one l).2 ≤ l.length := by
  unfold one
  split
  · simp
  · rename_i hl
    have h1 : 1 ≤ l.length := by
      cases l with
      | nil => exact absurd rfl hl
      | cons _ _ => simp
    split
    · exact dec_le l h1
    · simp

def faultF : Nat → List UInt8 → Nat → Int
  | 0, _, _ => -1
  | f + 1, l, p => if p < l.length then (if (one (l.drop p)).2 = 0 then (p : Int) else faultF f l (p + (one (l.drop p)).2)) else -1
/-- How many right bytes, at the most, l begins with, from place p on; -1, if they are all. -/
def faultAt (l : List UInt8) (p : Nat) : Int := faultF (l.length - p) l p
def fault (l : List UInt8) : Int := faultAt l 0

theorem faultF_fuel (l : List UInt8) : ∀ (f g p : Nat), l.length - p ≤ f → l.length - p ≤ g → faultF f l p = faultF g l p := by
  intro f
  induction f with
  | zero =>
    intro g p h _
    cases g with
    | zero => rfl
    | succ g => unfold faultF; rw [if_neg (by omega)]
  | succ f ih =>
    intro g p h h2
    cases g with
    | zero => unfold faultF; rw [if_neg (by omega)]
    | succ g =>
      unfold faultF
      split
      · split
        · rfl
        · exact ih g _ (by omega) (by omega)
      · rfl

theorem faultAt_end {l : List UInt8} {p : Nat} (h : l.length ≤ p) : faultAt l p = -1 := by
  unfold faultAt; rw [show l.length - p = 0 from by omega]; rfl
theorem faultAt_bad {l : List UInt8} {p : Nat} (h : p < l.length) (h0 : (one (l.drop p)).2 = 0) : faultAt l p = p := by
  unfold faultAt
  obtain ⟨g, hg⟩ : ∃ g, l.length - p = g + 1 := ⟨l.length - p - 1, by omega⟩
  rw [hg]
  unfold faultF
  rw [if_pos h, if_pos h0]
theorem faultAt_step {l : List UInt8} {p : Nat} (h : p < l.length) (h0 : (one (l.drop p)).2 ≠ 0) : faultAt l p = faultAt l (p + (one (l.drop p)).2) := by
  unfold faultAt
  obtain ⟨g, hg⟩ : ∃ g, l.length - p = g + 1 := ⟨l.length - p - 1, by omega⟩
  rw [hg]
  conv => lhs; unfold faultF
  rw [if_pos h, if_neg h0]
  exact faultF_fuel l _ _ _ (by omega) (by omega)
theorem one_drop_le (l : List UInt8) (p : Nat) (h : p ≤ l.length) : p + (one (l.drop p)).2 ≤ l.length := by
  have := one_le (l.drop p)
  rw [List.length_drop] at this
  omega

end Go.Proofs.Ythkbjbbffkgpfaa.U
