/- Open bytes, and the state of a scan, plain. No program is met here. -/
import Derived.Test.YtdkegfookbgicaaUtg
namespace Go.Proofs.Ytdkegfookbgicaa.U

/-- Table 3-7, by the places: the bytes of one code point of so many bytes. -/
def tab (m : Nat) (l : List UInt8) : Prop :=
  m ≤ l.length ∧
  ((m = 1 ∧ nth l 0 < 128) ∨
   (m = 2 ∧ 194 ≤ nth l 0 ∧ nth l 0 ≤ 223 ∧ nth l 1 / 64 = 2) ∨
   (m = 3 ∧ 224 ≤ nth l 0 ∧ nth l 0 ≤ 239 ∧ nth l 1 / 64 = 2 ∧ nth l 2 / 64 = 2 ∧ (nth l 0 = 224 → 160 ≤ nth l 1) ∧ (nth l 0 = 237 → nth l 1 ≤ 159)) ∨
   (m = 4 ∧ 240 ≤ nth l 0 ∧ nth l 0 ≤ 244 ∧ nth l 1 / 64 = 2 ∧ nth l 2 / 64 = 2 ∧ nth l 3 / 64 = 2 ∧ (nth l 0 = 240 → 144 ≤ nth l 1) ∧ (nth l 0 = 244 → nth l 1 ≤ 143)))

theorem one_tab {l : List UInt8} {m : Nat} (hm : 0 < m) : (one l).2 = m ↔ tab m l := by
  have b0 := nth_lt l 0
  have b1 := nth_lt l 1
  have b2 := nth_lt l 2
  have b3 := nth_lt l 3
  unfold one
  by_cases hl : l = []
  · subst hl
    rw [if_pos rfl]
    unfold tab
    constructor
    · intro h; simp at h; omega
    · rintro ⟨h, _⟩; simp at h; omega
  rw [if_neg hl]
  have hlen : 1 ≤ l.length := List.length_pos_iff.2 hl
  unfold dec
  by_cases c1 : nth l 0 < 128
  · rw [if_pos c1]
    have hw : wid (nth l 0) = 1 := by unfold wid; rw [if_pos c1]
    simp only [hw]
    unfold tab
    constructor
    · intro h; simp at h; omega
    · intro h; simp; omega
  rw [if_neg c1]
  have w1 : wid 65533 = 3 := by decide
  by_cases c2 : nth l 0 / 32 = 6 ∧ cont l 1
  · rw [if_pos c2]
    obtain ⟨d1, d2, d3⟩ := c2
    by_cases e : 128 ≤ nth l 0 % 32 * 64 + nth l 1 % 64
    · rw [if_pos e]
      have hw : wid (nth l 0 % 32 * 64 + nth l 1 % 64) = 2 := by unfold wid; rw [if_neg (by omega), if_pos (by omega)]
      simp only [hw]
      unfold tab
      constructor
      · intro h; simp at h; omega
      · intro h; simp; omega
    · rw [if_neg e]
      simp only [w1]
      unfold tab
      constructor
      · intro h; simp at h; omega
      · intro h; simp; omega
  rw [if_neg c2]
  by_cases c3 : nth l 0 / 16 = 14 ∧ cont l 1 ∧ cont l 2
  · rw [if_pos c3]
    obtain ⟨d1, ⟨d2, d3⟩, d4, d5⟩ := c3
    by_cases e : 2048 ≤ nth l 0 % 16 * 4096 + nth l 1 % 64 * 64 + nth l 2 % 64 ∧ isCp (nth l 0 % 16 * 4096 + nth l 1 % 64 * 64 + nth l 2 % 64)
    · rw [if_pos e]
      have hw : wid (nth l 0 % 16 * 4096 + nth l 1 % 64 * 64 + nth l 2 % 64) = 3 := by
        rw [wid_isCp e.2, if_neg (by omega), if_neg (by omega), if_pos (by omega)]
      simp only [hw]
      have e2 := e.2.2
      unfold tab
      constructor
      · intro h; simp at h; omega
      · intro h; simp; omega
    · rw [if_neg e]
      simp only [w1]
      unfold isCp at e
      unfold tab
      constructor
      · intro h; simp at h; omega
      · intro h; simp; omega
  rw [if_neg c3]
  by_cases c4 : nth l 0 / 8 = 30 ∧ cont l 1 ∧ cont l 2 ∧ cont l 3
  · rw [if_pos c4]
    obtain ⟨d1, ⟨d2, d3⟩, ⟨d4, d5⟩, d6, d7⟩ := c4
    by_cases e : 65536 ≤ nth l 0 % 8 * 262144 + nth l 1 % 64 * 4096 + nth l 2 % 64 * 64 + nth l 3 % 64 ∧ isCp (nth l 0 % 8 * 262144 + nth l 1 % 64 * 4096 + nth l 2 % 64 * 64 + nth l 3 % 64)
    · rw [if_pos e]
      have hw : wid (nth l 0 % 8 * 262144 + nth l 1 % 64 * 4096 + nth l 2 % 64 * 64 + nth l 3 % 64) = 4 := by
        rw [wid_isCp e.2, if_neg (by omega), if_neg (by omega), if_neg (by omega)]
      simp only [hw]
      have e2 := e.2.1
      unfold tab
      constructor
      · intro h; simp at h; omega
      · intro h; simp; omega
    · rw [if_neg e]
      simp only [w1]
      unfold isCp at e
      unfold tab
      constructor
      · intro h; simp at h; omega
      · intro h; simp; omega
  rw [if_neg c4]
  simp only [w1]
  unfold cont at c2 c3 c4
  unfold tab
  constructor
  · intro h; simp at h; omega
  · intro h; simp; omega

theorem one_le4 (l : List UInt8) : (one l).2 ≤ 4 := by
  by_cases h0 : (one l).2 = 0
  · omega
  · have := (one_spec h0).2.1
    have := wid_le (one l).1
    omega

/-- A code point that bytes begin with stays, whatever comes behind. -/
theorem one_app {l : List UInt8} (h : (one l).2 ≠ 0) (r : List UInt8) : one (l ++ r) = one l := by
  obtain ⟨h1, h2, h3⟩ := one_spec h
  have : l ++ r = enc (one l).1 ++ (l.drop (one l).2 ++ r) := by
    rw [← List.append_assoc, ← h3]
  rw [this, one_enc h1, ← h2]
/-- What lies behind the code point does not count. -/
theorem one_cut {l r : List UInt8} (h : (one (l ++ r)).2 ≠ 0) (hl : (one (l ++ r)).2 ≤ l.length) : one l = one (l ++ r) := by
  obtain ⟨h1, h2, h3⟩ := one_spec h
  have he := enc_len h1
  have hp : l.take (one (l ++ r)).2 = enc (one (l ++ r)).1 := by
    have := congrArg (List.take (one (l ++ r)).2) h3
    rw [List.take_append_of_le_length hl, List.take_append_of_le_length (by omega), List.take_of_length_le (l := enc (one (l ++ r)).1) (by omega)] at this
    exact this
  have : l = enc (one (l ++ r)).1 ++ l.drop (one (l ++ r)).2 := by rw [← hp, List.take_append_drop]
  conv => lhs; rw [this]
  rw [one_enc h1, ← h2]

/-- Open: some bytes behind make these those of one code point. -/
def opn (q : List UInt8) : Prop := q ≠ [] ∧ ∃ t, t ≠ [] ∧ (one (q ++ t)).2 = (q ++ t).length

theorem opn_len {q : List UInt8} (h : opn q) : 1 ≤ q.length ∧ q.length ≤ 3 := by
  obtain ⟨h0, t, ht, h1⟩ := h
  have := one_le4 (q ++ t)
  have h2 : 1 ≤ t.length := List.length_pos_iff.2 ht
  have h3 : 1 ≤ q.length := List.length_pos_iff.2 h0
  rw [List.length_append] at h1
  omega
theorem opn_one {q : List UInt8} (h : opn q) : (one q).2 = 0 := by
  obtain ⟨h0, t, ht, h1⟩ := h
  refine Decidable.byContradiction fun hh => ?_
  have h2 : 1 ≤ t.length := List.length_pos_iff.2 ht
  have := one_le q
  rw [one_app hh, List.length_append] at h1
  omega

theorem nth_app_left (l r : List UInt8) (k : Nat) (h : k < l.length) : nth (l ++ r) k = nth l k := by
  unfold nth; rw [List.getElem?_append_left h]

/-- The program's way to tell it. -/
def goes (b : List UInt8) (x : UInt8) : Prop := b.length < (one (b ++ [x, 128, 128])).2
instance (b : List UInt8) (x : UInt8) : Decidable (goes b x) := by unfold goes; exact inferInstance

theorem nth_cons0 (a : UInt8) (l : List UInt8) : nth (a :: l) 0 = a.toNat := rfl
theorem nth_consS (a : UInt8) (l : List UInt8) (k : Nat) : nth (a :: l) (k + 1) = nth l k := by unfold nth; simp

theorem opn_goes {b : List UInt8} (h : opn b) : goes b 128 ∨ goes b 191 := by
  have hl := opn_len h
  obtain ⟨h0, t, ht, h1⟩ := h
  have h2 : 1 ≤ t.length := List.length_pos_iff.2 ht
  have hpos : 0 < (b ++ t).length := by rw [List.length_append]; omega
  have htab := (one_tab hpos).1 h1
  have n0 : nth (b ++ t) 0 = nth b 0 := nth_app_left _ _ _ (by omega)
  have n1 : 1 < b.length → nth (b ++ t) 1 = nth b 1 := fun h => nth_app_left _ _ _ h
  have n2 : 2 < b.length → nth (b ++ t) 2 = nth b 2 := fun h => nth_app_left _ _ _ h
  have hlen := List.length_append (as := b) (bs := t)
  generalize hL : (b ++ t).length = L at *
  generalize nth (b ++ t) 0 = m0 at *
  generalize nth (b ++ t) 1 = m1 at *
  generalize nth (b ++ t) 2 = m2 at *
  generalize nth (b ++ t) 3 = m3 at *
  have key : ∀ x : UInt8, tab L (b ++ [x, 128, 128]) → goes b x := fun x hx => by
    unfold goes
    rw [(one_tab (by omega)).2 hx]
    omega
  have k1 : (UInt8.toNat 128) = 128 := rfl
  have k2 : (UInt8.toNat 191) = 191 := rfl
  obtain ⟨b0, rfl⟩ | ⟨b0, b1, rfl⟩ | ⟨b0, b1, b2, rfl⟩ : (∃ b0, b = [b0]) ∨ (∃ b0 b1, b = [b0, b1]) ∨ (∃ b0 b1 b2, b = [b0, b1, b2]) := by
    match b, hl with
    | [b0], _ => exact .inl ⟨_, rfl⟩
    | [b0, b1], _ => exact .inr (.inl ⟨_, _, rfl⟩)
    | [b0, b1, b2], _ => exact .inr (.inr ⟨_, _, _, rfl⟩)
  · have e0 : nth [b0] 0 = b0.toNat := rfl
    clear n1 n2
    by_cases hx : b0.toNat = 224 ∨ b0.toNat = 240
    · refine .inr (key _ ?_)
      clear key
      simp only [tab, List.cons_append, List.nil_append, nth_cons0, nth_consS, List.length_cons, List.length_nil, k1, k2, true_and, and_true, Nat.zero_add, Nat.reduceAdd, Nat.reduceLeDiff, implies_true, Nat.reduceDiv] at *
      omega
    · refine .inl (key _ ?_)
      clear key
      simp only [tab, List.cons_append, List.nil_append, nth_cons0, nth_consS, List.length_cons, List.length_nil, k1, true_and, and_true, Nat.zero_add, Nat.reduceAdd, Nat.reduceLeDiff, implies_true, Nat.reduceDiv] at *
      omega
  · have e0 : nth [b0, b1] 0 = b0.toNat := rfl
    have e1 : nth [b0, b1] 1 = b1.toNat := rfl
    have n1 := n1 (by simp)
    clear n2
    refine .inl (key _ ?_)
    clear key
    simp only [tab, List.cons_append, List.nil_append, nth_cons0, nth_consS, List.length_cons, List.length_nil, k1, true_and, and_true, Nat.zero_add, Nat.reduceAdd, Nat.reduceLeDiff, Nat.reduceDiv] at *
    omega
  · have n1 := n1 (by simp)
    have n2 := n2 (by simp)
    refine .inl (key _ ?_)
    clear key
    simp only [tab, List.cons_append, List.nil_append, nth_cons0, nth_consS, List.length_cons, List.length_nil, k1, true_and, and_true, Nat.zero_add, Nat.reduceAdd, Nat.reduceLeDiff, Nat.reduceDiv] at *
    omega
theorem goes_opn {b : List UInt8} (h0 : b ≠ []) {x : UInt8} (h : goes b x) : opn b := by
  unfold goes at h
  refine ⟨h0, ([x, 128, 128] : List UInt8).take ((one (b ++ [x, 128, 128])).2 - b.length), ?_, ?_⟩
  · intro hh
    have := congrArg List.length hh
    simp at this
    omega
  · have hle := one_le (b ++ [x, 128, 128])
    rw [List.length_append] at hle
    generalize hm : (one (b ++ [x, 128, 128])).2 = m at *
    have e : b ++ [x, 128, 128] = (b ++ List.take (m - b.length) [x, 128, 128]) ++ List.drop (m - b.length) [x, 128, 128] := by
      rw [List.append_assoc, List.take_append_drop]
    have hl : (b ++ List.take (m - b.length) [x, 128, 128]).length = m := by
      rw [List.length_append, List.length_take]; omega
    rw [e] at hm
    rw [one_cut (r := List.drop (m - b.length) [x, 128, 128]) (by omega) (by omega), hm, hl]
theorem opn_iff (b : List UInt8) : opn b ↔ 0 < b.length ∧ b.length ≤ 3 ∧ (goes b 128 ∨ goes b 191) := by
  constructor
  · intro h
    have := opn_len h
    exact ⟨by omega, by omega, opn_goes h⟩
  · rintro ⟨h1, _, h | h⟩
    · exact goes_opn (List.length_pos_iff.1 h1) h
    · exact goes_opn (List.length_pos_iff.1 h1) h
instance (b : List UInt8) : Decidable (opn b) := decidable_of_iff _ (opn_iff b).symm

/-- The document's way to tell it: what may stand behind. -/
def tailB : List UInt8 := [128, 143, 158, 173, 188, 144, 160, 191]
def tails : Nat → List (List UInt8)
  | 0 => [[]]
  | n + 1 => (tails n).flatMap fun t => tailB.map fun x => t ++ [x]
theorem tails_len : ∀ (n : Nat), ∀ t ∈ tails n, t.length = n
  | 0, t, h => by simp [tails] at h; subst h; rfl
  | n + 1, t, h => by
    unfold tails at h
    obtain ⟨t', h1, h2⟩ := List.mem_flatMap.1 h
    obtain ⟨x, _, rfl⟩ := List.mem_map.1 h2
    rw [List.length_append, tails_len n t' h1]; rfl
theorem tails_mem {n : Nat} {t : List UInt8} (h : t ∈ tails n) {x : UInt8} (hx : x ∈ tailB) : t ++ [x] ∈ tails (n + 1) :=
  List.mem_flatMap.2 ⟨t, h, List.mem_map.2 ⟨x, hx, rfl⟩⟩
theorem tails_1 {x : UInt8} (hx : x ∈ tailB) : [x] ∈ tails 1 := tails_mem (n := 0) (t := []) (by simp [tails]) hx
theorem tails_2 {x y : UInt8} (hx : x ∈ tailB) (hy : y ∈ tailB) : [x, y] ∈ tails 2 := tails_mem (tails_1 hx) hy
theorem tails_3 {x y z : UInt8} (hx : x ∈ tailB) (hy : y ∈ tailB) (hz : z ∈ tailB) : [x, y, z] ∈ tails 3 := tails_mem (tails_2 hx hy) hz

theorem opn_tails {b : List UInt8} (h : opn b) : ∃ n, 1 ≤ n ∧ n + b.length ≤ 4 ∧ ∃ t ∈ tails n, (one (b ++ t)).2 = n + b.length := by
  have hl := opn_len h
  obtain ⟨x, hx, hg⟩ : ∃ x ∈ tailB, goes b x := by
    rcases opn_goes h with h | h
    · exact ⟨128, by decide, h⟩
    · exact ⟨191, by decide, h⟩
  have h8 : (128 : UInt8) ∈ tailB := by decide
  unfold goes at hg
  have h4 := one_le4 (b ++ [x, 128, 128])
  have hle := one_le (b ++ [x, 128, 128])
  rw [List.length_append] at hle
  generalize hm : (one (b ++ [x, 128, 128])).2 = m at *
  have e : b ++ [x, 128, 128] = (b ++ List.take (m - b.length) [x, 128, 128]) ++ List.drop (m - b.length) [x, 128, 128] := by
    rw [List.append_assoc, List.take_append_drop]
  have hl2 : (b ++ List.take (m - b.length) [x, 128, 128]).length = m := by
    rw [List.length_append, List.length_take]; simp only [List.length_cons, List.length_nil] at *; omega
  rw [e] at hm
  refine ⟨m - b.length, by omega, by omega, List.take (m - b.length) [x, 128, 128], ?_, ?_⟩
  · have : m - b.length = 1 ∨ m - b.length = 2 ∨ m - b.length = 3 := by omega
    rcases this with h | h | h <;> rw [h]
    · exact tails_1 hx
    · exact tails_2 hx h8
    · exact tails_3 hx h8 h8
  · rw [one_cut (r := List.drop (m - b.length) [x, 128, 128]) (by omega) (by omega), hm]; omega
theorem tails_opn {b t : List UInt8} {n : Nat} (h0 : b ≠ []) (hn : 1 ≤ n) (ht : t ∈ tails n) (h : (one (b ++ t)).2 = n + b.length) : opn b := by
  have hl := tails_len n t ht
  exact ⟨h0, t, fun hh => by subst hh; simp at hl; omega, by rw [List.length_append, hl, h]; omega⟩

end Go.Proofs.Ytdkegfookbgicaa.U
