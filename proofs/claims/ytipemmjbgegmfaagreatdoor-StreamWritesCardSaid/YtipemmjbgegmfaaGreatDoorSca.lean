/- Sca: one text of Opn Scn Scm Fr Pir Lin. -/
import Derived.Test.YtipemmjbgegmfaaGreatDoorCdx
import Derived.Test.YtipemmjbgegmfaaGreatDoorBas
import Derived.Laws.CopyRow

/- Open bytes, and the state of a scan, plain. No program is met here. -/
namespace Go.Proofs.YtipemmjbgegmfaaGreatDoor.U

/-- Table 3-7, by the places: the bytes of one code point of so many bytes. -/
def tab (m : Nat) (l : List UInt8) : Prop :=
  m ≤ l.length ∧
  ((m = 1 ∧ nth l 0 < 128) ∨
   (m = 2 ∧ 194 ≤ nth l 0 ∧ nth l 0 ≤ 223 ∧ nth l 1 / 64 = 2) ∨
   (m = 3 ∧ 224 ≤ nth l 0 ∧ nth l 0 ≤ 239 ∧ nth l 1 / 64 = 2 ∧ nth l 2 / 64 = 2 ∧ (nth l 0 = 224 → 160 ≤ nth l 1) ∧ (nth l 0 = 237 → nth l 1 ≤ 159)) ∨
   (m = 4 ∧ 240 ≤ nth l 0 ∧ nth l 0 ≤ 244 ∧ nth l 1 / 64 = 2 ∧ nth l 2 / 64 = 2 ∧ nth l 3 / 64 = 2 ∧ (nth l 0 = 240 → 144 ≤ nth l 1) ∧ (nth l 0 = 244 → nth l 1 ≤ 143)))

theorem one_tab {l : List UInt8} {m : Nat} (hm : 0 < m) : (one l).2 = m ↔ tab m l := by
  have b0 := nth_lt l 0
  have b1 := nth_lt l 1
  have b2 := nth_lt l 2
  have b3 := nth_lt l 3
  unfold one
  by_cases hl : l = []
  · subst hl
    rw [if_pos rfl]
    unfold tab
    constructor
    · intro h; simp at h; omega
    · rintro ⟨h, _⟩; simp at h; omega
  rw [if_neg hl]
  have hlen : 1 ≤ l.length := List.length_pos_iff.2 hl
  unfold dec
  by_cases c1 : nth l 0 < 128
  · rw [if_pos c1]
    have hw : wid (nth l 0) = 1 := by unfold wid; rw [if_pos c1]
    simp only [hw]
    unfold tab
    constructor
    · intro h; simp at h; omega
    · intro h; simp; omega
  rw [if_neg c1]
  have w1 : wid 65533 = 3 := by decide
  by_cases c2 : nth l 0 / 32 = 6 ∧ cont l 1
  · rw [if_pos c2]
    obtain ⟨d1, d2, d3⟩ := c2
    by_cases e : 128 ≤ nth l 0 % 32 * 64 + nth l 1 % 64
    · rw [if_pos e]
      have hw : wid (nth l 0 % 32 * 64 + nth l 1 % 64) = 2 := by unfold wid; rw [if_neg (by omega), if_pos (by omega)]
      simp only [hw]
      unfold tab
      constructor
      · intro h; simp at h; omega
      · intro h; simp; omega
    · rw [if_neg e]
      simp only [w1]
      unfold tab
      constructor
      · intro h; simp at h; omega
      · intro h; simp; omega
  rw [if_neg c2]
  by_cases c3 : nth l 0 / 16 = 14 ∧ cont l 1 ∧ cont l 2
  · rw [if_pos c3]
    obtain ⟨d1, ⟨d2, d3⟩, d4, d5⟩ := c3
    by_cases e : 2048 ≤ nth l 0 % 16 * 4096 + nth l 1 % 64 * 64 + nth l 2 % 64 ∧ isCp (nth l 0 % 16 * 4096 + nth l 1 % 64 * 64 + nth l 2 % 64)
    · rw [if_pos e]
      have hw : wid (nth l 0 % 16 * 4096 + nth l 1 % 64 * 64 + nth l 2 % 64) = 3 := by
        rw [wid_isCp e.2, if_neg (by omega), if_neg (by omega), if_pos (by omega)]
      simp only [hw]
      have e2 := e.2.2
      unfold tab
      constructor
      · intro h; simp at h; omega
      · intro h; simp; omega
    · rw [if_neg e]
      simp only [w1]
      unfold isCp at e
      unfold tab
      constructor
      · intro h; simp at h; omega
      · intro h; simp; omega
  rw [if_neg c3]
  by_cases c4 : nth l 0 / 8 = 30 ∧ cont l 1 ∧ cont l 2 ∧ cont l 3
  · rw [if_pos c4]
    obtain ⟨d1, ⟨d2, d3⟩, ⟨d4, d5⟩, d6, d7⟩ := c4
    by_cases e : 65536 ≤ nth l 0 % 8 * 262144 + nth l 1 % 64 * 4096 + nth l 2 % 64 * 64 + nth l 3 % 64 ∧ isCp (nth l 0 % 8 * 262144 + nth l 1 % 64 * 4096 + nth l 2 % 64 * 64 + nth l 3 % 64)
    · rw [if_pos e]
      have hw : wid (nth l 0 % 8 * 262144 + nth l 1 % 64 * 4096 + nth l 2 % 64 * 64 + nth l 3 % 64) = 4 := by
        rw [wid_isCp e.2, if_neg (by omega), if_neg (by omega), if_neg (by omega)]
      simp only [hw]
      have e2 := e.2.1
      unfold tab
      constructor
      · intro h; simp at h; omega
      · intro h; simp; omega
    · rw [if_neg e]
      simp only [w1]
      unfold isCp at e
      unfold tab
      constructor
      · intro h; simp at h; omega
      · intro h; simp; omega
  rw [if_neg c4]
  simp only [w1]
  unfold cont at c2 c3 c4
  unfold tab
  constructor
  · intro h; simp at h; omega
  · intro h; simp; omega

theorem one_le4 (l : List UInt8) : (one l).2 ≤ 4 := by
  by_cases h0 : (one l).2 = 0
  · omega
  · have := (one_spec h0).2.1
    have := wid_le (one l).1
    omega

/-- A code point that bytes begin with stays, whatever comes behind. -/
theorem one_app {l : List UInt8} (h : (one l).2 ≠ 0) (r : List UInt8) : one (l ++ r) = one l := by
  obtain ⟨h1, h2, h3⟩ := one_spec h
  have : l ++ r = enc (one l).1 ++ (l.drop (one l).2 ++ r) := by
    rw [← List.append_assoc, ← h3]
  rw [this, one_enc h1, ← h2]
/-- What lies behind the code point does not count. -/
theorem one_cut {l r : List UInt8} (h : (one (l ++ r)).2 ≠ 0) (hl : (one (l ++ r)).2 ≤ l.length) : one l = one (l ++ r) := by
  obtain ⟨h1, h2, h3⟩ := one_spec h
  have he := enc_len h1
  have hp : l.take (one (l ++ r)).2 = enc (one (l ++ r)).1 := by
    have := congrArg (List.take (one (l ++ r)).2) h3
    rw [List.take_append_of_le_length hl, List.take_append_of_le_length (by omega), List.take_of_length_le (l := enc (one (l ++ r)).1) (by omega)] at this
    exact this
  have : l = enc (one (l ++ r)).1 ++ l.drop (one (l ++ r)).2 := by rw [← hp, List.take_append_drop]
  conv => lhs; rw [this]
  rw [one_enc h1, ← h2]

/-- Open: some bytes behind make these those of one code point. -/
def opn (q : List UInt8) : Prop := q ≠ [] ∧ ∃ t, t ≠ [] ∧ (one (q ++ t)).2 = (q ++ t).length

theorem opn_len {q : List UInt8} (h : opn q) : 1 ≤ q.length ∧ q.length ≤ 3 := by
  obtain ⟨h0, t, ht, h1⟩ := h
  have := one_le4 (q ++ t)
  have h2 : 1 ≤ t.length := List.length_pos_iff.2 ht
  have h3 : 1 ≤ q.length := List.length_pos_iff.2 h0
  rw [List.length_append] at h1
  omega
theorem opn_one {q : List UInt8} (h : opn q) : (one q).2 = 0 := by
  obtain ⟨h0, t, ht, h1⟩ := h
  refine Decidable.byContradiction fun hh => ?_
  have h2 : 1 ≤ t.length := List.length_pos_iff.2 ht
  have := one_le q
  rw [one_app hh, List.length_append] at h1
  omega

theorem nth_app_left (l r : List UInt8) (k : Nat) (h : k < l.length) : nth (l ++ r) k = nth l k := by
  unfold nth; rw [List.getElem?_append_left h]

/-- The program's way to tell it. -/
def goes (b : List UInt8) (x : UInt8) : Prop := b.length < (one (b ++ [x, 128, 128])).2
instance (b : List UInt8) (x : UInt8) : Decidable (goes b x) := by unfold goes; exact inferInstance

theorem nth_cons0 (a : UInt8) (l : List UInt8) : nth (a :: l) 0 = a.toNat := rfl
theorem nth_consS (a : UInt8) (l : List UInt8) (k : Nat) : nth (a :: l) (k + 1) = nth l k := by unfold nth; simp

theorem opn_goes {b : List UInt8} (h : opn b) : goes b 128 ∨ goes b 191 := by
  have hl := opn_len h
  obtain ⟨h0, t, ht, h1⟩ := h
  have h2 : 1 ≤ t.length := List.length_pos_iff.2 ht
  have hpos : 0 < (b ++ t).length := by rw [List.length_append]; omega
  have htab := (one_tab hpos).1 h1
  have n0 : nth (b ++ t) 0 = nth b 0 := nth_app_left _ _ _ (by omega)
  have n1 : 1 < b.length → nth (b ++ t) 1 = nth b 1 := fun h => nth_app_left _ _ _ h
  have n2 : 2 < b.length → nth (b ++ t) 2 = nth b 2 := fun h => nth_app_left _ _ _ h
  have hlen : (b ++ t).length = b.length + t.length := List.length_append
  generalize hL : (b ++ t).length = L at *
  generalize nth (b ++ t) 0 = m0 at *
  generalize nth (b ++ t) 1 = m1 at *
  generalize nth (b ++ t) 2 = m2 at *
  generalize nth (b ++ t) 3 = m3 at *
  have key : ∀ x : UInt8, tab L (b ++ [x, 128, 128]) → goes b x := fun x hx => by
    unfold goes
    rw [(one_tab (by omega)).2 hx]
    omega
  have k1 : (UInt8.toNat 128) = 128 := rfl
  have k2 : (UInt8.toNat 191) = 191 := rfl
  obtain ⟨b0, rfl⟩ | ⟨b0, b1, rfl⟩ | ⟨b0, b1, b2, rfl⟩ : (∃ b0, b = [b0]) ∨ (∃ b0 b1, b = [b0, b1]) ∨ (∃ b0 b1 b2, b = [b0, b1, b2]) := by
    match b, hl with
    | [b0], _ => exact .inl ⟨_, rfl⟩
    | [b0, b1], _ => exact .inr (.inl ⟨_, _, rfl⟩)
    | [b0, b1, b2], _ => exact .inr (.inr ⟨_, _, _, rfl⟩)
  · have e0 : nth [b0] 0 = b0.toNat := rfl
    clear n1 n2
    by_cases hx : b0.toNat = 224 ∨ b0.toNat = 240
    · refine .inr (key _ ?_)
      clear key
      simp only [tab, List.cons_append, List.nil_append, nth_cons0, nth_consS, List.length_cons, List.length_nil, k1, k2, true_and, and_true, Nat.zero_add, Nat.reduceAdd, Nat.reduceLeDiff, implies_true, Nat.reduceDiv] at *
      omega
    · refine .inl (key _ ?_)
      clear key
      simp only [tab, List.cons_append, List.nil_append, nth_cons0, nth_consS, List.length_cons, List.length_nil, k1, true_and, and_true, Nat.zero_add, Nat.reduceAdd, Nat.reduceLeDiff, implies_true, Nat.reduceDiv] at *
      omega
  · have e0 : nth [b0, b1] 0 = b0.toNat := rfl
    have e1 : nth [b0, b1] 1 = b1.toNat := rfl
    have n1 := n1 (by simp)
    clear n2
    refine .inl (key _ ?_)
    clear key
    simp only [tab, List.cons_append, List.nil_append, nth_cons0, nth_consS, List.length_cons, List.length_nil, k1, true_and, and_true, Nat.zero_add, Nat.reduceAdd, Nat.reduceLeDiff, Nat.reduceDiv] at *
    omega
  · have n1 := n1 (by simp)
    have n2 := n2 (by simp)
    refine .inl (key _ ?_)
    clear key
    simp only [tab, List.cons_append, List.nil_append, nth_cons0, nth_consS, List.length_cons, List.length_nil, k1, true_and, and_true, Nat.zero_add, Nat.reduceAdd, Nat.reduceLeDiff, Nat.reduceDiv] at *
    omega
theorem goes_opn {b : List UInt8} (h0 : b ≠ []) {x : UInt8} (h : goes b x) : opn b := by
  unfold goes at h
  refine ⟨h0, ([x, 128, 128] : List UInt8).take ((one (b ++ [x, 128, 128])).2 - b.length), ?_, ?_⟩
  · intro hh
    have := congrArg List.length hh
    simp at this
    omega
  · have hle := one_le (b ++ [x, 128, 128])
    rw [List.length_append] at hle
    generalize hm : (one (b ++ [x, 128, 128])).2 = m at *
    have e : b ++ [x, 128, 128] = (b ++ List.take (m - b.length) [x, 128, 128]) ++ List.drop (m - b.length) [x, 128, 128] := by
      rw [List.append_assoc, List.take_append_drop]
    have hl : (b ++ List.take (m - b.length) [x, 128, 128]).length = m := by
      rw [List.length_append, List.length_take]; omega
    rw [e] at hm
    rw [one_cut (r := List.drop (m - b.length) [x, 128, 128]) (by omega) (by omega), hm, hl]
theorem opn_iff (b : List UInt8) : opn b ↔ 0 < b.length ∧ b.length ≤ 3 ∧ (goes b 128 ∨ goes b 191) := by
  constructor
  · intro h
    have := opn_len h
    exact ⟨by omega, by omega, opn_goes h⟩
  · rintro ⟨h1, _, h | h⟩
    · exact goes_opn (List.length_pos_iff.1 h1) h
    · exact goes_opn (List.length_pos_iff.1 h1) h
instance (b : List UInt8) : Decidable (opn b) := decidable_of_iff _ (opn_iff b).symm

/-- The document's way to tell it: what may stand behind. -/
def tailB : List UInt8 := [128, 143, 158, 173, 188, 144, 160, 191]
def tails : Nat → List (List UInt8)
  | 0 => [[]]
  | n + 1 => (tails n).flatMap fun t => tailB.map fun x => t ++ [x]
theorem tails_len : ∀ (n : Nat), ∀ t ∈ tails n, t.length = n
  | 0, t, h => by simp [tails] at h; subst h; rfl
  | n + 1, t, h => by
    unfold tails at h
    obtain ⟨t', h1, h2⟩ := List.mem_flatMap.1 h
    obtain ⟨x, _, rfl⟩ := List.mem_map.1 h2
    rw [List.length_append, tails_len n t' h1]; rfl
theorem tails_mem {n : Nat} {t : List UInt8} (h : t ∈ tails n) {x : UInt8} (hx : x ∈ tailB) : t ++ [x] ∈ tails (n + 1) :=
  List.mem_flatMap.2 ⟨t, h, List.mem_map.2 ⟨x, hx, rfl⟩⟩
theorem tails_1 {x : UInt8} (hx : x ∈ tailB) : [x] ∈ tails 1 := tails_mem (n := 0) (t := []) (by simp [tails]) hx
theorem tails_2 {x y : UInt8} (hx : x ∈ tailB) (hy : y ∈ tailB) : [x, y] ∈ tails 2 := tails_mem (tails_1 hx) hy
theorem tails_3 {x y z : UInt8} (hx : x ∈ tailB) (hy : y ∈ tailB) (hz : z ∈ tailB) : [x, y, z] ∈ tails 3 := tails_mem (tails_2 hx hy) hz

theorem opn_tails {b : List UInt8} (h : opn b) : ∃ n, 1 ≤ n ∧ n + b.length ≤ 4 ∧ ∃ t ∈ tails n, (one (b ++ t)).2 = n + b.length := by
  have hl := opn_len h
  obtain ⟨x, hx, hg⟩ : ∃ x ∈ tailB, goes b x := by
    rcases opn_goes h with h | h
    · exact ⟨128, by decide, h⟩
    · exact ⟨191, by decide, h⟩
  have h8 : (128 : UInt8) ∈ tailB := by decide
  unfold goes at hg
  have h4 := one_le4 (b ++ [x, 128, 128])
  have hle := one_le (b ++ [x, 128, 128])
  rw [List.length_append] at hle
  generalize hm : (one (b ++ [x, 128, 128])).2 = m at *
  have e : b ++ [x, 128, 128] = (b ++ List.take (m - b.length) [x, 128, 128]) ++ List.drop (m - b.length) [x, 128, 128] := by
    rw [List.append_assoc, List.take_append_drop]
  have hl2 : (b ++ List.take (m - b.length) [x, 128, 128]).length = m := by
    rw [List.length_append, List.length_take]; simp only [List.length_cons, List.length_nil] at *; omega
  rw [e] at hm
  refine ⟨m - b.length, by omega, by omega, List.take (m - b.length) [x, 128, 128], ?_, ?_⟩
  · have : m - b.length = 1 ∨ m - b.length = 2 ∨ m - b.length = 3 := by omega
    rcases this with h | h | h <;> rw [h]
    · exact tails_1 hx
    · exact tails_2 hx h8
    · exact tails_3 hx h8 h8
  · rw [one_cut (r := List.drop (m - b.length) [x, 128, 128]) (by omega) (by omega), hm]; omega
theorem tails_opn {b t : List UInt8} {n : Nat} (h0 : b ≠ []) (hn : 1 ≤ n) (ht : t ∈ tails n) (h : (one (b ++ t)).2 = n + b.length) : opn b := by
  have hl := tails_len n t ht
  exact ⟨h0, t, fun hh => by subst hh; simp at hl; omega, by rw [List.length_append, hl, h]; omega⟩

end Go.Proofs.YtipemmjbgegmfaaGreatDoor.U

/- The state of a scan, plain: byte by byte, and of all bytes at once. No program is met here. -/
namespace Go.Proofs.YtipemmjbgegmfaaGreatDoor.U

structure St where
  seen : Int
  bad : Int
  pend : List UInt8

def St.new : St := ⟨0, -1, []⟩

/-- The next byte. -/
def St.step (s : St) (x : UInt8) : St :=
  if 0 ≤ s.bad then ⟨s.seen + 1, s.bad, s.pend⟩
  else if 0 < (one (s.pend ++ [x])).2 then ⟨s.seen + 1, s.bad, []⟩
  else if opn (s.pend ++ [x]) then ⟨s.seen + 1, s.bad, s.pend ++ [x]⟩
  else ⟨s.seen + 1, s.seen + 1 - (s.pend ++ [x]).length, []⟩
def St.go (s : St) (l : List UInt8) : St := l.foldl St.step s

/-- The state behind all bytes. -/
def St.of (l : List UInt8) : St :=
  if 0 ≤ fault l then (if opn (l.drop (fault l).toNat) then ⟨l.length, -1, l.drop (fault l).toNat⟩ else ⟨l.length, fault l, []⟩)
  else ⟨l.length, -1, []⟩

/-- What a scan may tell. -/
structure St.ok (s : St) : Prop where
  seen0 : 0 ≤ s.seen
  seen1 : s.seen ≤ 1099511627776
  bad0 : -1 ≤ s.bad
  bad1 : s.bad < s.seen ∨ s.bad = -1
  pend : s.pend = [] ∨ (opn s.pend ∧ (s.pend.length : Int) ≤ s.seen ∧ s.bad = -1)

def St.end (s : St) : Int := if s.pend = [] then s.bad else s.seen - s.pend.length

/-- The place of the first fault cuts the bytes into right ones and others. -/
theorem fault_cut {l : List UInt8} (h : 0 ≤ fault l) : ∃ cs, Cps cs ∧ l = encs cs ++ l.drop (fault l).toNat ∧ ((encs cs).length : Int) = fault l ∧ (one (l.drop (fault l).toNat)).2 = 0 ∧ l.drop (fault l).toNat ≠ [] := by
  obtain ⟨cs, r, hcs, hl, hr⟩ := split l
  have hf := fault_at hcs hr
  rw [← hl] at hf
  by_cases h0 : r = []
  · rw [if_pos h0] at hf; omega
  · rw [if_neg h0] at hf
    have hd : l.drop (fault l).toNat = r := by
      rw [hf, Int.toNat_natCast]
      conv => lhs; rw [hl]
      rw [List.drop_left]
    rw [hd]
    exact ⟨cs, hcs, hl, by omega, hr, h0⟩

theorem fault_one {cs : List Nat} (h : Cps cs) {q : List UInt8} (hq : q ≠ []) (h0 : (one q).2 = 0) : fault (encs cs ++ q) = (encs cs).length := by
  rw [fault_at h h0, if_neg hq]
theorem fault_whole {cs : List Nat} (h : Cps cs) {q : List UInt8} (h0 : 0 < (one q).2) (h1 : (one q).2 = q.length) : fault (encs cs ++ q) = -1 := by
  obtain ⟨h2, h3, h4⟩ := one_spec (l := q) (by omega)
  have : q = encs [(one q).1] := by
    rw [h1, List.drop_length, List.append_nil] at h4
    rw [encs_cons, encs_nil, List.append_nil]
    exact h4
  rw [this, ← encs_append]
  exact fault_encs (h.append (fun x hx => by simp at hx; subst hx; exact h2))

theorem drop_fault {cs : List Nat} {q l : List UInt8} (hl : l = encs cs ++ q) (hf : fault l = (encs cs).length) : l.drop (fault l).toNat = q := by
  rw [hf, Int.toNat_natCast, hl, List.drop_left]

theorem St.of_right {l : List UInt8} (h : fault l = -1) : St.of l = ⟨l.length, -1, []⟩ := by
  unfold St.of; rw [if_neg (by omega)]
theorem St.of_open {cs : List Nat} {q l : List UInt8} (hl : l = encs cs ++ q) (hf : fault l = (encs cs).length) (h : opn q) : St.of l = ⟨l.length, -1, q⟩ := by
  unfold St.of; rw [if_pos (by omega), drop_fault hl hf, if_pos h]
theorem St.of_bad {cs : List Nat} {q l : List UInt8} (hl : l = encs cs ++ q) (hf : fault l = (encs cs).length) (h : ¬ opn q) : St.of l = ⟨l.length, (encs cs).length, []⟩ := by
  unfold St.of; rw [if_pos (by omega), drop_fault hl hf, if_neg h, hf]

/-- What becomes of right bytes with others behind them, when one comes. -/
theorem St.of_next {cs : List Nat} (h : Cps cs) {q : List UInt8} (hq : q = [] ∨ opn q) (x : UInt8) :
    (⟨(encs cs ++ q).length, -1, q⟩ : St).step x = St.of (encs cs ++ (q ++ [x])) := by
  have hne : q ++ [x] ≠ [] := by simp
  unfold St.step
  rw [if_neg (show ¬ (0 : Int) ≤ -1 by decide)]
  by_cases h1 : 0 < (one (q ++ [x])).2
  · rw [if_pos h1]
    have hw : (one (q ++ [x])).2 = (q ++ [x]).length := by
      have hle := one_le (q ++ [x])
      refine Decidable.byContradiction fun hh => ?_
      rw [List.length_append, List.length_singleton] at hle hh
      have hc := one_cut (l := q) (r := [x]) (by omega) (by omega)
      rcases hq with rfl | hq
      · rw [one_nil] at hc; rw [← hc] at h1; exact absurd h1 (by decide)
      · have := opn_one hq; rw [hc] at this; omega
    rw [St.of_right (fault_whole h h1 hw)]
    simp only [List.length_append, List.length_singleton]
    congr 1
  · rw [if_neg h1]
    have hf := fault_one h hne (by omega)
    by_cases h2 : opn (q ++ [x])
    · rw [if_pos h2, St.of_open rfl hf h2]
      simp only [List.length_append, List.length_singleton]
      congr 1
    · rw [if_neg h2, St.of_bad rfl hf h2]
      simp only [List.length_append, List.length_singleton]
      congr 1
      omega

theorem St.step_of (l : List UInt8) (x : UInt8) : (St.of l).step x = St.of (l ++ [x]) := by
  by_cases h0 : 0 ≤ fault l
  · obtain ⟨cs, hcs, hl, hf, h1, hne⟩ := fault_cut h0
    generalize hq : l.drop (fault l).toNat = q at *
    by_cases ho : opn q
    · rw [St.of_open hl hf.symm ho, hl, St.of_next hcs (.inr ho), List.append_assoc]
    · have hno : ∀ t, ¬ (t ≠ [] ∧ (one (q ++ t)).2 = (q ++ t).length) := fun t ht => ho ⟨hne, t, ht⟩
      have h2 : (one (q ++ [x])).2 = 0 := by
        refine Decidable.byContradiction fun hh => ?_
        have hle := one_le (q ++ [x])
        by_cases hc : (one (q ++ [x])).2 ≤ q.length
        · have := one_cut hh hc
          rw [this] at h1; omega
        · refine hno [x] ⟨by simp, ?_⟩
          rw [List.length_append, List.length_singleton] at *
          omega
      have ho2 : ¬ opn (q ++ [x]) := by
        rintro ⟨_, t, ht, hh⟩
        refine hno ([x] ++ t) ⟨by simp, ?_⟩
        rw [← List.append_assoc]; exact hh
      have hf2 : fault (encs cs ++ (q ++ [x])) = (encs cs).length := fault_one hcs (by simp) h2
      rw [St.of_bad hl hf.symm ho]
      have e : l ++ [x] = encs cs ++ (q ++ [x]) := by conv => lhs; rw [hl]
                                                      rw [List.append_assoc]
      rw [e, St.of_bad rfl hf2 ho2]
      unfold St.step
      rw [if_pos (by simp), ← e]
      simp only [List.length_append, List.length_singleton]
      congr 1
  · have hr : fault l = -1 := by have := fault_ge l; omega
    obtain ⟨cs, hcs, rfl⟩ := right_of (l := l) (by omega)
    have := St.of_next hcs (q := []) (.inl rfl) x
    rw [List.append_nil] at this
    rw [St.of_right hr, this]; rfl

theorem St.go_nil (s : St) : s.go [] = s := rfl
theorem St.go_cons (s : St) (x : UInt8) (l : List UInt8) : s.go (x :: l) = (s.step x).go l := rfl
theorem St.go_append (s : St) (l m : List UInt8) : s.go (l ++ m) = (s.go l).go m := by simp [St.go]
theorem St.go_take (s : St) (l : List UInt8) (p : Nat) (h : p < l.length) : s.go (l.take (p + 1)) = (s.go (l.take p)).step l[p] := by
  rw [List.take_succ_eq_append_getElem h, St.go_append]; rfl

theorem St.of_nil : St.of [] = St.new := rfl
theorem St.of_go (l m : List UInt8) : (St.of l).go m = St.of (l ++ m) := by
  induction m generalizing l with
  | nil => rw [List.append_nil]; rfl
  | cons x m ih => rw [St.go_cons, St.step_of, ih, List.append_assoc]; rfl
theorem St.new_go (l : List UInt8) : St.new.go l = St.of l := by rw [← St.of_nil, St.of_go]; rfl

theorem St.step_seen (s : St) (x : UInt8) : (s.step x).seen = s.seen + 1 := by
  unfold St.step; repeat' split
  all_goals rfl
theorem St.step_pend {s : St} (h : s.pend.length ≤ 3) (x : UInt8) : (s.step x).pend.length ≤ 3 := by
  unfold St.step
  split
  · exact h
  · split
    · exact Nat.zero_le _
    · split
      · rename_i h; exact (opn_len h).2
      · exact Nat.zero_le _
theorem St.go_seen (s : St) (l : List UInt8) : (s.go l).seen = s.seen + l.length := by
  induction l generalizing s with
  | nil => simp [St.go]
  | cons x l ih => rw [St.go_cons, ih, St.step_seen, List.length_cons]; omega
theorem St.go_pend {s : St} (h : s.pend.length ≤ 3) (l : List UInt8) : (s.go l).pend.length ≤ 3 := by
  induction l generalizing s with
  | nil => exact h
  | cons x l ih => rw [St.go_cons]; exact ih (St.step_pend h x)

end Go.Proofs.YtipemmjbgegmfaaGreatDoor.U

/- More of a scan's state, plain. No program is met here. -/
namespace Go.Proofs.YtipemmjbgegmfaaGreatDoor.U

theorem St.step_bad {s : St} (h : 0 ≤ s.bad) (x : UInt8) : (s.step x).bad = s.bad ∧ (s.step x).pend = s.pend := by
  unfold St.step; rw [if_pos h]; exact ⟨rfl, rfl⟩
theorem St.go_bad {s : St} (h : 0 ≤ s.bad) (l : List UInt8) : (s.go l).bad = s.bad ∧ (s.go l).pend = s.pend := by
  induction l generalizing s with
  | nil => exact ⟨rfl, rfl⟩
  | cons x l ih =>
    have h1 := St.step_bad h x
    have h2 := ih (s := s.step x) (by omega)
    rw [St.go_cons, h2.1, h2.2]
    exact h1
theorem St.of_seen (l : List UInt8) : (St.of l).seen = l.length := by
  unfold St.of; repeat' split
  all_goals rfl
theorem St.of_fault {l : List UInt8} (h : 0 ≤ (St.of l).bad) : (St.of l).bad = fault l ∧ (St.of l).pend = [] := by
  revert h
  unfold St.of
  split
  · split
    · intro h; exact absurd h (show ¬ (0 : Int) ≤ -1 by decide)
    · intro _; exact ⟨rfl, rfl⟩
  · intro h; exact absurd h (show ¬ (0 : Int) ≤ -1 by decide)
theorem St.of_pend (l : List UInt8) : (St.of l).pend.length ≤ 3 := by rw [← St.new_go]; exact St.go_pend (by decide) l
theorem St.of_end (l : List UInt8) : (St.of l).end = fault l := by
  by_cases h0 : 0 ≤ fault l
  · obtain ⟨cs, _, hl, hf, _, hne⟩ := fault_cut h0
    by_cases ho : opn (l.drop (fault l).toNat)
    · rw [St.of_open hl hf.symm ho]
      unfold St.end
      rw [if_neg hne]
      have := congrArg List.length hl
      rw [List.length_append] at this
      simp only
      omega
    · rw [St.of_bad hl hf.symm ho]
      exact hf
  · have hr : fault l = -1 := by have := fault_ge l; omega
    rw [St.of_right hr, hr]; rfl
theorem St.of_bad_lt (l : List UInt8) : -1 ≤ (St.of l).bad ∧ ((St.of l).bad < l.length ∨ (St.of l).bad = -1) := by
  by_cases h : 0 ≤ (St.of l).bad
  · have h1 := (St.of_fault h).1
    rw [h1] at h
    obtain ⟨cs, _, hl, hf, _, hne⟩ := fault_cut h
    have := congrArg List.length hl
    rw [List.length_append] at this
    have := List.length_pos_iff.2 hne
    omega
  · revert h
    unfold St.of
    split
    · split
      · intro _; exact ⟨Int.le_refl _, .inr rfl⟩
      · rename_i h0 _; intro h; exact absurd h0 h
    · intro _; exact ⟨Int.le_refl _, .inr rfl⟩
/-- What is told of bytes may be gone on from. -/
theorem St.of_ok {l : List UInt8} (h : (l.length : Int) ≤ 1099511627776) : (St.of l).ok := by
  have h1 := St.of_bad_lt l
  refine ⟨by rw [St.of_seen]; omega, by rw [St.of_seen]; exact h, h1.1, by rw [St.of_seen]; exact h1.2, ?_⟩
  unfold St.of
  split
  · split
    · rename_i ho
      exact .inr ⟨ho, by simp only [List.length_drop]; omega, rfl⟩
    · exact .inl rfl
  · exact .inl rfl

/-- A state so many bytes further on. -/
def St.shift (k : Int) (s : St) : St := ⟨s.seen + k, if 0 ≤ s.bad then s.bad + k else s.bad, s.pend⟩
theorem St.step_shift {k : Int} (hk : 0 ≤ k) {s : St} (h : (s.pend.length : Int) ≤ s.seen) (x : UInt8) : (s.shift k).step x = (s.step x).shift k := by
  unfold St.step
  by_cases hb : 0 ≤ s.bad
  · have : 0 ≤ (s.shift k).bad := by unfold St.shift; rw [if_pos hb]; simp only; omega
    rw [if_pos this, if_pos hb]
    unfold St.shift
    simp only [if_pos hb]
    congr 1; omega
  · have : ¬ 0 ≤ (s.shift k).bad := by unfold St.shift; rw [if_neg hb]; exact hb
    rw [if_neg this, if_neg hb]
    show (if 0 < (one (s.pend ++ [x])).2 then _ else if opn (s.pend ++ [x]) then _ else _) = _
    split
    · unfold St.shift; simp only [if_neg hb]; congr 1; omega
    · split
      · unfold St.shift; simp only [if_neg hb]; congr 1; omega
      · have h2 : (0 : Int) ≤ s.seen + 1 - ((s.pend ++ [x]).length : Nat) := by rw [List.length_append, List.length_singleton]; omega
        unfold St.shift
        simp only [if_pos h2]
        congr 1 <;> omega
theorem St.of_pend_le (l : List UInt8) : ((St.of l).pend.length : Int) ≤ (St.of l).seen := by
  rw [St.of_seen]
  unfold St.of
  repeat' split
  all_goals simp only [List.length_drop, List.length_nil]
  all_goals omega
theorem St.go_shift {k : Int} (hk : 0 ≤ k) (m l : List UInt8) : ((St.of m).shift k).go l = (St.of (m ++ l)).shift k := by
  induction l generalizing m with
  | nil => rw [List.append_nil]; rfl
  | cons x l ih =>
    rw [St.go_cons, St.step_shift hk (St.of_pend_le m), St.step_of, ih, List.append_assoc]; rfl
theorem St.ok_shift {s : St} (h : s.ok) (hb : s.bad < 0) : s = (St.of s.pend).shift (s.seen - s.pend.length) := by
  have hbad : s.bad = -1 := by have := h.bad0; omega
  obtain ⟨seen, bad, pend⟩ := s
  simp only at *
  subst hbad
  rcases h.pend with hp | ⟨ho, _⟩
  · simp only at hp
    subst hp
    show (⟨seen, -1, []⟩ : St) = ⟨0 + (seen - 0), -1, []⟩
    congr 1; omega
  · simp only at ho
    have h3 := opn_one ho
    have hl := opn_len ho
    have h4 := faultAt_bad (l := pend) (p := 0) (by omega) (by simpa using h3)
    have h5 : fault pend = 0 := by unfold fault; rw [h4]; rfl
    have : St.of pend = ⟨pend.length, -1, pend⟩ := by
      unfold St.of
      rw [if_pos (by omega), h5]
      show (if opn (pend.drop 0) then _ else _) = _
      rw [List.drop_zero, if_pos ho]
      rfl
    rw [this]
    show (⟨seen, -1, pend⟩ : St) = ⟨(pend.length : Int) + (seen - pend.length), -1, pend⟩
    congr 1; omega
theorem St.next_go {s : St} (h : s.ok) (hb : s.bad < 0) (l : List UInt8) : s.go l = (St.of (s.pend ++ l)).shift (s.seen - s.pend.length) := by
  have hk : 0 ≤ s.seen - s.pend.length := by
    rcases h.pend with hp | ⟨_, hp, _⟩
    · rw [hp]; have := h.seen0; simp; omega
    · omega
  conv => lhs; rw [St.ok_shift h hb]
  exact St.go_shift hk _ _
theorem St.go_bad' {s : St} (h : s.ok) (hb : 0 ≤ s.bad) (l : List UInt8) : s.go l = ⟨s.seen + l.length, s.bad, []⟩ := by
  have h1 := St.go_bad hb l
  have h2 := St.go_seen s l
  have h3 : s.pend = [] := by
    rcases h.pend with hp | ⟨_, _, hp⟩
    · exact hp
    · omega
  rw [h3] at h1
  generalize s.go l = t at *
  obtain ⟨a, b, c⟩ := t
  simp only at *
  rw [h1.1, h1.2, h2]
theorem St.go_ok {s : St} (h : s.ok) (l : List UInt8) (hs : s.seen + l.length ≤ 1099511627776) : (s.go l).ok := by
  by_cases hb : 0 ≤ s.bad
  · rw [St.go_bad' h hb]
    have h0 := h.seen0
    have h1 := h.bad0
    have h2 := h.bad1
    exact ⟨by simp only; omega, hs, h1, by simp only; omega, .inl rfl⟩
  · rw [St.next_go h (by omega)]
    have hk : 0 ≤ s.seen - s.pend.length := by
      rcases h.pend with hp | ⟨_, hp, _⟩
      · rw [hp]; have := h.seen0; simp; omega
      · omega
    have h1 := St.of_bad_lt (s.pend ++ l)
    have h2 := St.of_seen (s.pend ++ l)
    have h3 := St.of_pend_le (s.pend ++ l)
    have h4 : (St.of (s.pend ++ l)).pend = [] ∨ (opn (St.of (s.pend ++ l)).pend ∧ (St.of (s.pend ++ l)).bad = -1) := by
      unfold St.of
      split
      · split
        · rename_i ho; exact .inr ⟨ho, rfl⟩
        · exact .inl rfl
      · exact .inl rfl
    rw [List.length_append] at h1 h2
    unfold St.shift
    refine ⟨by simp only; omega, by simp only; omega, ?_, ?_, ?_⟩
    · simp only; split <;> omega
    · simp only; split <;> omega
    · simp only
      rcases h4 with h4 | ⟨h4, h5⟩
      · exact .inl h4
      · exact .inr ⟨h4, by omega, by rw [if_neg (by omega)]; exact h5⟩
theorem St.ok_pend {s : St} (h : s.ok) : s.pend.length ≤ 3 := by
  rcases h.pend with hp | ⟨ho, _⟩
  · rw [hp]; exact Nat.zero_le _
  · exact (opn_len ho).2
theorem St.new_ok : St.new.ok := ⟨by decide, by decide, by decide, .inr rfl, .inl rfl⟩

end Go.Proofs.YtipemmjbgegmfaaGreatDoor.U

/- Worlds in which two blocks may be written; objects by their cells; copy. -/
namespace Go.Proofs.YtipemmjbgegmfaaGreatDoor
open Go.RowKit

/-- From w to w' memory was made, and the blocks g and k may have been written: nothing else has turned. -/
structure Fr (g k : Nat) (w w' : World) : Prop where
  os : w'.os = w.os
  tape : w'.tape = w.tape
  output : w'.output = w.output
  size : w.heap.size ≤ w'.heap.size
  block : ∀ i, i < w.heap.size → i ≠ g → i ≠ k → w'.heap[i]? = w.heap[i]?

theorem Fr.refl (g k : Nat) (w : World) : Fr g k w w := ⟨rfl, rfl, rfl, Nat.le_refl _, fun _ _ _ _ => rfl⟩
theorem Fr.trans {g k g' k' : Nat} {a b c : World} (h : Fr g k a b) (h2 : Fr g' k' b c) (hg : g' = g ∨ g' = k ∨ a.heap.size ≤ g') (hk : k' = g ∨ k' = k ∨ a.heap.size ≤ k') : Fr g k a c :=
  ⟨h2.os.trans h.os, h2.tape.trans h.tape, h2.output.trans h.output, Nat.le_trans h.size h2.size, fun i hi h3 h4 => by
    have := h.size
    rw [h2.block i (by omega) (by omega) (by omega), h.block i hi h3 h4]⟩
theorem Fr.of_up {w w' : World} (h : Up w w') (g k : Nat) : Fr g k w w' := ⟨h.os, h.tape, h.output, h.size, fun i hi _ _ => h.block i hi⟩
/-- What was written was made behind the beginning: then nothing that was there has turned. -/
theorem Up.fr {a b c : World} {g k : Nat} (h : Up a b) (h2 : Fr g k b c) (hg : a.heap.size ≤ g) (hk : a.heap.size ≤ k) : Up a c :=
  ⟨h2.os.trans h.os, h2.tape.trans h.tape, h2.output.trans h.output, Nat.le_trans h.size h2.size, fun i hi => by
    have := h.size
    rw [h2.block i (by omega) (by omega) (by omega)]; exact h.block i hi⟩
theorem Fr.setCell {g k : Nat} {a b : World} (h : Fr g k a b) {p : Addr} (hp : p.block = g ∨ p.block = k ∨ a.heap.size ≤ p.block) (u : Value) : Fr g k a (b.setCell p u) :=
  ⟨h.os, h.tape, h.output, by have := h.size; simpa [World.setCell] using this, fun i hi h3 h4 => by
    rw [Below.heap_setCell _ _ _ _ (by omega)]; exact h.block i hi h3 h4⟩
theorem Fr.up {g k : Nat} {a b c : World} (h : Fr g k a b) (h2 : Up b c) : Fr g k a c :=
  h.trans (Fr.of_up h2 g k) (.inl rfl) (.inr (.inl rfl))
theorem Fr.alloc {g k : Nat} {a b : World} (h : Fr g k a b) (o : Obj) : Fr g k a (b.alloc o) := h.up ((Up.refl b).alloc o)
theorem Fr.grown {g k : Nat} {a b c : World} {row : Option Nat} (h : Fr g k a b) (hg : b.grownBy c row) (hr : ∀ i, row = some i → i = g ∨ i = k ∨ a.heap.size ≤ i) : Fr g k a c :=
  ⟨hg.os.trans h.os, hg.tape.trans h.tape, hg.output.trans h.output, Nat.le_trans h.size hg.size, fun i hi h3 h4 => by
    have := h.size
    rw [hg.block i (by omega) (fun e => by have := hr i e.symm; omega)]; exact h.block i hi h3 h4⟩

theorem Rd.fr {w w' : World} {A : Option Addr} {c : Nat} {xs : List Value} (h : Rd w A c xs) {g k : Nat} (hf : Fr g k w w') (hne : 0 < c → ∀ a, A = some a → a.block ≠ g ∧ a.block ≠ k) : Rd w' A c xs := by
  refine ⟨h.fit, h.max, fun hc => ?_, h.nil, fun a ha j u hj => ?_⟩
  · obtain ⟨a, ha, hb⟩ := h.ad hc
    exact ⟨a, ha, Nat.lt_of_lt_of_le hb hf.size⟩
  · have hlen : 0 < c := by
      have := (List.getElem?_eq_some_iff.1 hj).1
      have := h.fit
      omega
    obtain ⟨a', ha', hb⟩ := h.ad hlen
    rw [ha] at ha'
    injection ha' with e
    subst e
    have hn := hne hlen a ha
    refine (World.cell?_of_block (w := w) (hf.block _ ?_ ?_ ?_)).trans (h.cell a ha j u hj)
    · rw [addr_block]; exact hb
    · rw [addr_block]; exact hn.1
    · rw [addr_block]; exact hn.2

/-! ### An object by its cells -/
theorem obj_cell {w : World} {g : Nat} {cur : Array Value} {t : TypeId} {fr : Nat × Nat} (h : w.heap[g]? = some (.cells cur t fr)) (i : Nat) : w.cell? ⟨g, i, none⟩ = cur[i]? := by
  simp [World.cell?, h]
theorem obj_frozen {w : World} {g : Nat} {cur : Array Value} {t : TypeId} (h : w.heap[g]? = some (.cells cur t (0, 0))) (i : Nat) : w.frozen? ⟨g, i, none⟩ = false := by
  simp [World.frozen?, h]
theorem obj_set {w : World} {g : Nat} {cur : Array Value} {t : TypeId} {fr : Nat × Nat} (h : w.heap[g]? = some (.cells cur t fr)) (i : Nat) (v : Value) :
    (w.setCell ⟨g, i, none⟩ v).heap[g]? = some (.cells (cur.setIfInBounds i v) t fr) := by
  simp only [World.setCell, Array.getElem?_modify, h]
  simp
theorem obj_lt {w : World} {g : Nat} {o : Obj} (h : w.heap[g]? = some o) : g < w.heap.size := (Array.getElem?_eq_some_iff.1 h).1
theorem obj_up {w w' : World} {g : Nat} {o : Obj} (h : w.heap[g]? = some o) (hu : Up w w') : w'.heap[g]? = some o := (hu.block g (obj_lt h)).trans h
theorem obj_fr {w w' : World} {g : Nat} {o : Obj} (h : w.heap[g]? = some o) {g1 k1 : Nat} (hf : Fr g1 k1 w w') (h1 : g ≠ g1) (h2 : g ≠ k1) : w'.heap[g]? = some o := (hf.block g (obj_lt h) h1 h2).trans h

/-- A row of an object's own reads as its cells. -/
theorem Rd.obj {w : World} {g : Nat} {cur : Array Value} {t : TypeId} {fr : Nat × Nat} (h : w.heap[g]? = some (.cells cur t fr)) {xs : List Value} {c : Nat} (hc : xs.length ≤ c) (hm : c ≤ maxLen) (hx : cur.toList.take xs.length = xs) :
    Rd w (some ⟨g, 0, none⟩) c xs := by
  refine ⟨hc, hm, fun _ => ⟨_, rfl, obj_lt h⟩, fun _ => .inr ⟨_, rfl⟩, fun a ha j u hu => ?_⟩
  injection ha with e
  subst e
  have hadd : (⟨g, 0, none⟩ : Addr).add j = ⟨g, j, none⟩ := by unfold Addr.add; split <;> simp_all
  have hj := (List.getElem?_eq_some_iff.1 hu).1
  rw [hadd, obj_cell h, ← Array.getElem?_toList]
  rw [← hx, List.getElem?_take, if_pos hj] at hu
  exact hu

theorem own_fr {w w' : World} {base : Nat} {e : TypeId} {size : Nat} {v : Value} {n : Nat} {xs : List Value} (h : w.ownsRow base e size v n xs) {g k : Nat} (hf : Fr g k w w') (hne : ∀ b, v.ownBlock = some b → b ≠ g ∧ b ≠ k) : w'.ownsRow base e size v n xs := by
  refine ⟨h.1, ?_⟩
  rcases h.2 with hn | ⟨b, cap, cur, rfl, hb, hgg, rest⟩
  · exact .inl hn
  · have := hne b rfl
    exact .inr ⟨b, cap, cur, rfl, hb, obj_fr hgg hf this.1 this.2, rest⟩

theorem wp_copy {P : Program} {o : Oper} {a : Act} {w w' : World} {K : Act → World → Prop} {Q : Exit → Act → World → Prop} (s x : Operand) (t t' : TypeId)
    (ho : o.op = .call { callee := .builtin .copy, args := #[s, x], argTypes := #[t, t'] }) {v y v' : Value} (hs : a.eval s = v) (hx : a.eval x = y)
    (hrun : (Builtin.copy_ #[t, t'] o.type #[v, y]).run P w = .ok v' w') (h : K (a.put o.dst v') w') : o.wp P a w K Q := by
  unfold Oper.wp execOp
  simp only [ho, resolve, invoke, builtin, Sem.run_bind, Sem.run_pure, Result.andThen_ok, List.map_toArray, List.map_cons, List.map_nil, hs, hx, hrun]
  exact h
theorem wpList_copy {P : Program} {ops : Array Oper} {rest : List Oper} {o : Oper} {a : Act} {w w' : World} {Q : Exit → Act → World → Prop} (hw : Region.wanted o (yielded ops a.tmps) = true) (s x : Operand) (t t' : TypeId)
    (ho : o.op = .call { callee := .builtin .copy, args := #[s, x], argTypes := #[t, t'] }) {v y v' : Value} (hs : a.eval s = v) (hx : a.eval x = y)
    (hrun : (Builtin.copy_ #[t, t'] o.type #[v, y]).run P w = .ok v' w') (h : wpList P ops Q rest (a.put o.dst v') w') : wpList P ops Q (o :: rest) a w :=
  BigFrame.wpList_want hw fun _ hK => wp_copy s x t t' ho hs hx hrun (hK _ _ h)

theorem heap_setRow {w : World} {g : Nat} {cur : Array Value} {t : TypeId} {fr : Nat × Nat} (h : w.heap[g]? = some (.cells cur t fr)) (cs : Array Value) : (w.setRow g cs).heap[g]? = some (.cells cs t fr) := by
  simp only [World.setRow, Array.getElem?_modify, h]
  simp

/-- copy of bytes into a row of the call's own. -/
theorem copy_bytes {w : World} {g : Nat} {cur : Array Value} {t : TypeId} (hg : w.heap[g]? = some (.cells cur t (0, 0))) (ty : TypeId) {dLen dCap : Nat} {a : Addr} {n c : Nat} {l : List UInt8} (h : Rd w (some a) c (bs l)) (hn : n = l.length) (hd : n ≤ dLen) (hc : n ≤ cur.size) :
    ∃ w', (Builtin.copy_ #[31, 31] ty #[.slice (some ⟨g, 0, none⟩) dLen dCap, .slice (some a) n c]).run Tryz.prog w = .ok (goInt n) w' ∧
      w'.heap[g]? = some (.cells (bs l ++ cur.toList.drop n).toArray t (0, 0)) ∧ Fr g g w w' := by
  subst hn
  have run := run_copy_row Tryz.prog w 31 31 ty 5 g 0 dLen dCap a l.length c cur t (bs l) uB (by have := infoB; revert this; cases Tryz.prog.info? 5 <;> simp <;> intros <;> assumption) hg
      (by rw [bs_len]; exact (Nat.min_eq_left hd).symm) (fun j v hj => h.cell a rfl j v hj) (by rw [bs_len]; omega) (one_bs l)
  rw [bs_len] at run
  refine ⟨_, run, ?_, ?_⟩
  · rw [heap_setRow hg]
    simp
  · refine ⟨rfl, rfl, rfl, by simp [World.setRow], fun i hi h1 _ => ?_⟩
    simp only [World.setRow, Array.getElem?_modify]
    rw [if_neg (fun e => h1 e.symm)]

end Go.Proofs.YtipemmjbgegmfaaGreatDoor

/- A region that draws its order, walked once in an order of our own (as XPi has it), where not only memory is made: what is kept is a relation R. -/
namespace Go.Proofs.YtipemmjbgegmfaaGreatDoor
open Go.RowKit

/-- What is kept through the region: goes on from world to world. -/
structure Kept (R : World → World → Prop) : Prop where
  refl : ∀ w, R w w
  trans : ∀ a b c, R a b → R b c → R a c
theorem kept_fr (g k : Nat) : Kept (Fr g k) := ⟨Fr.refl g k, fun _ _ _ h h2 => h.trans h2 (.inl rfl) (.inr (.inl rfl))⟩

section
variable {R : World → World → Prop} {P : Program} {ops : Array Oper} {Q : Exit → Act → World → Prop}

/-- The walk in this order. -/
def wpPiR (R : World → World → Prop) (P : Program) (ops : Array Oper) (Q : Exit → Act → World → Prop) : List (Nat × Bool) → Act → World → Prop
  | [], a, w => Q .normal a w
  | (i, b) :: π, a, w => ∃ o, ops[i]? = some o ∧
      if Region.wanted o (yielded ops a.tmps) = true then
        (b = false ∧ ∃ v, (∀ w', R w w' → (execOp a.eval o).run P w' = .ok (.value v) w') ∧ wpPiR R P ops Q π (a.put o.dst v) w) ∨
        (b = true ∧ Oper.wp P o a w (fun a' w1 => R w w1 ∧ wpPiR R P ops Q π a' w1) Q)
      else wpPiR R P ops Q π (a.put o.dst undef) w

theorem pir_sound (hR : Kept R) (hs : Region.noSelect ops = true) (hQ : ∀ c a d v w, Q (.panic c) (Act.put a d v) w → Q (.panic c) a w) : ∀ (π : List (Nat × Bool)) (listed : Array Bool) (a : Act) (w : World),
    okPi ops π listed = true → wpPiR R P ops Q π a w → wpAnyH P .any ops Q (R w) π.length listed a w
  | [], listed, a, w, hB, h => by
    have : Region.ready .any ops listed = [] := by simpa [okPi] using hB
    exact ⟨this, h⟩
  | (i, b) :: π, listed, a, w, hB, h => by
    obtain ⟨o, ho, h⟩ := h
    unfold okPi at hB
    rw [Bool.and_eq_true] at hB
    obtain ⟨hB1, hB2⟩ := hB
    by_cases hw : Region.wanted o (yielded ops a.tmps) = true
    · rw [if_pos hw] at h
      rcases h with ⟨rfl, v, hv, h⟩ | ⟨rfl, h⟩
      · rw [if_neg (by decide), Bool.and_eq_true] at hB1
        exact wpAnyH_take ho hs hB1.2 hB1.1 (fun c a w h => hQ c a _ _ w h) (.inl ⟨hw, hv⟩) (hR.refl w) (pir_sound hR hs hQ π _ _ _ hB2 h)
      · rw [if_pos rfl] at hB1
        have hr := of_decide_eq_true hB1
        refine wpAnyH_all hr (by simp) fun j hj => ?_
        obtain rfl : j = i := by simpa using hj
        unfold wpOp
        simp only [ho]
        rw [if_pos hw]
        exact .inl (Oper.wp_mono (fun a' w1 h1 => ⟨h1.1, held_mono (fun _ h2 => hR.trans _ _ _ h1.1 h2) _ _ _ _ (pir_sound hR hs hQ π _ _ _ hB2 h1.2)⟩) h)
    · rw [if_neg hw] at h
      have hw' : Region.wanted o (yielded ops a.tmps) = false := by simpa using hw
      cases b with
      | false =>
        rw [if_neg (by decide), Bool.and_eq_true] at hB1
        exact wpAnyH_take ho hs hB1.2 hB1.1 (fun c a w h => hQ c a _ _ w h) (.inr ⟨hw', rfl⟩) (hR.refl w) (pir_sound hR hs hQ π _ _ _ hB2 h)
      | true =>
        rw [if_pos rfl] at hB1
        have hr := of_decide_eq_true hB1
        refine wpAnyH_all hr (by simp) fun j hj => ?_
        obtain rfl : j = i := by simpa using hj
        unfold wpOp
        simp only [ho, hw']
        exact ⟨hR.refl w, pir_sound hR hs hQ π _ _ _ hB2 h⟩

/-- THE BEGINNING. -/
theorem wp_region_pir (π : List (Nat × Bool)) {id : Nat} {a : Act} {w : World} (hR : Kept R) (hm : P.follows .mixedOrders = true)
    (hB : (Region.noSelect ops && decide (ops.size = π.length) && okPi ops π (Array.replicate ops.size false)) = true)
    (hQ : ∀ c a d v w, Q (.panic c) (Act.put a d v) w → Q (.panic c) a w) (h : wpPiR R P ops Q π a w.drew) : (Code.region id ops true).wp P Q a w := by
  simp only [Bool.and_eq_true, decide_eq_true_eq] at hB
  refine wp_region_held (S := R w.drew) hm ?_
  have := pir_sound hR hB.1.1 hQ π _ a w.drew hB.2 h
  rw [← hB.1.2] at this
  exact this

/-- What computes, or reads what was there. -/
theorem pir_take {i : Nat} {π : List (Nat × Bool)} {a : Act} {w : World} {o : Oper} {v : Value} (ho : opAt i ops.toList = some o) (hw : Region.wanted o (yielded ops a.tmps) = true)
    (hv : ∀ w', R w w' → (execOp a.eval o).run P w' = .ok (.value v) w') (h : wpPiR R P ops Q π (a.put o.dst v) w) : wpPiR R P ops Q ((i, false) :: π) a w :=
  ⟨o, opAt_get ho, by rw [if_pos hw]; exact .inl ⟨rfl, v, hv, h⟩⟩
/-- What a guard shuts out. -/
theorem pir_skip {i : Nat} {b : Bool} {π : List (Nat × Bool)} {a : Act} {w : World} {o : Oper} (ho : opAt i ops.toList = some o) (hw : Region.wanted o (yielded ops a.tmps) = false)
    (h : wpPiR R P ops Q π (a.put o.dst undef) w) : wpPiR R P ops Q ((i, b) :: π) a w :=
  ⟨o, opAt_get ho, by rw [if_neg (by rw [hw]; decide)]; exact h⟩
/-- What makes memory. -/
theorem pir_make {i : Nat} {π : List (Nat × Bool)} {a : Act} {w : World} {o : Oper} (ho : opAt i ops.toList = some o) (hw : Region.wanted o (yielded ops a.tmps) = true)
    (h : ∀ K : Act → World → Prop, Hid (∀ a' w1, R w w1 → wpPiR R P ops Q π a' w1 → K a' w1) → Oper.wp P o a w K Q) : wpPiR R P ops Q ((i, true) :: π) a w :=
  ⟨o, opAt_get ho, by rw [if_pos hw]; exact .inr ⟨rfl, h _ fun _ _ h1 h2 => ⟨h1, h2⟩⟩⟩
theorem pir_done {a : Act} {w : World} (h : Q .normal a w) : wpPiR R P ops Q [] a w := h

end
attribute [irreducible] wpPiR
end Go.Proofs.YtipemmjbgegmfaaGreatDoor

/- A region that draws its order and makes memory in several chains at once (append(append([]byte{}, x...), c) many times in one statement): each operation's value owns blocks, takes over those of the values that it is made of, and touches no others: then any order is as good as another, and none needs to be walked. -/
namespace Go.Proofs.YtipemmjbgegmfaaGreatDoor
open Go.RowKit

/-- From w to w' memory was made; of what was there only blocks of X may have been written. -/
structure Fx (X : Nat → Prop) (w w' : World) : Prop where
  os : w'.os = w.os
  tape : w'.tape = w.tape
  output : w'.output = w.output
  size : w.heap.size ≤ w'.heap.size
  block : ∀ i, i < w.heap.size → ¬ X i → w'.heap[i]? = w.heap[i]?

theorem Fx.refl (X : Nat → Prop) (w : World) : Fx X w w := ⟨rfl, rfl, rfl, Nat.le_refl _, fun _ _ _ => rfl⟩
theorem Fx.trans {X : Nat → Prop} {a b c : World} (h : Fx X a b) (h2 : Fx X b c) : Fx X a c :=
  ⟨h2.os.trans h.os, h2.tape.trans h.tape, h2.output.trans h.output, Nat.le_trans h.size h2.size, fun i hi h3 => by
    have := h.size
    rw [h2.block i (by omega) h3, h.block i hi h3]⟩
theorem kept_fx (X : Nat → Prop) : Kept (Fx X) := ⟨Fx.refl X, fun _ _ _ => Fx.trans⟩
theorem Fx.of_up {X : Nat → Prop} {w w' : World} (h : Up w w') : Fx X w w' := ⟨h.os, h.tape, h.output, h.size, fun i hi _ => h.block i hi⟩
theorem Fx.rd {X : Nat → Prop} {w w' : World} {A : Option Addr} {c : Nat} {xs : List Value} (h : Rd w A c xs) (hf : Fx X w w') (hne : 0 < c → ∀ a, A = some a → ¬ X a.block) : Rd w' A c xs := by
  refine ⟨h.fit, h.max, fun hc => ?_, h.nil, fun a ha j u hj => ?_⟩
  · obtain ⟨a, ha, hb⟩ := h.ad hc
    exact ⟨a, ha, Nat.lt_of_lt_of_le hb hf.size⟩
  · have hlen : 0 < c := by
      have := (List.getElem?_eq_some_iff.1 hj).1
      have := h.fit
      omega
    obtain ⟨a', ha', hb⟩ := h.ad hlen
    rw [ha] at ha'
    injection ha' with e
    subst e
    refine (World.cell?_of_block (w := w) (hf.block _ ?_ ?_)).trans (h.cell a ha j u hj)
    · rw [addr_block]; exact hb
    · rw [addr_block]; exact hne hlen a ha

section
variable {P : Program} {ops : Array Oper} {Q : Exit → Act → World → Prop}

/-! ### What only computes or reads is taken first -/
def okTk (ops : Array Oper) : List Nat → Array Bool → Bool
  | [], _ => true
  | i :: π, listed => (Region.ready .any ops listed).contains i && Region.free .any ops listed i && okTk ops π (listed.setIfInBounds i true)
def tkEnd : List Nat → Array Bool → Array Bool
  | [], listed => listed
  | i :: π, listed => tkEnd π (listed.setIfInBounds i true)
def wpTk (R : World → World → Prop) (P : Program) (ops : Array Oper) (E : Act → World → Prop) : List Nat → Act → World → Prop
  | [], a, w => E a w
  | i :: π, a, w => ∃ o, ops[i]? = some o ∧
      if Region.wanted o (yielded ops a.tmps) = true then ∃ v, (∀ w', R w w' → (execOp a.eval o).run P w' = .ok (.value v) w') ∧ wpTk R P ops E π (a.put o.dst v) w
      else wpTk R P ops E π (a.put o.dst undef) w

theorem tk_sound {R : World → World → Prop} {E : Act → World → Prop} {n : Nat} (hR : Kept R) (hs : Region.noSelect ops = true) (hQ : ∀ c a d v w, Q (.panic c) (Act.put a d v) w → Q (.panic c) a w) :
    ∀ (π : List Nat) (listed : Array Bool) (a : Act) (w : World), okTk ops π listed = true → (∀ a w, E a w → wpAnyH P .any ops Q (R w) n (tkEnd π listed) a w) → wpTk R P ops E π a w → wpAnyH P .any ops Q (R w) (π.length + n) listed a w
  | [], listed, a, w, _, hE, h => by
    have := hE a w h
    simpa [tkEnd] using this
  | i :: π, listed, a, w, hB, hE, h => by
    obtain ⟨o, ho, h⟩ := h
    unfold okTk at hB
    simp only [Bool.and_eq_true] at hB
    rw [show (i :: π).length + n = (π.length + n) + 1 by simp only [List.length_cons]; omega]
    by_cases hw : Region.wanted o (yielded ops a.tmps) = true
    · rw [if_pos hw] at h
      obtain ⟨v, hv, h⟩ := h
      exact wpAnyH_take ho hs hB.1.2 hB.1.1 (fun c a w h => hQ c a _ _ w h) (.inl ⟨hw, hv⟩) (hR.refl w) (tk_sound hR hs hQ π _ _ _ hB.2 hE h)
    · rw [if_neg hw] at h
      have hw' : Region.wanted o (yielded ops a.tmps) = false := by simpa using hw
      exact wpAnyH_take ho hs hB.1.2 hB.1.1 (fun c a w h => hQ c a _ _ w h) (.inr ⟨hw', rfl⟩) (hR.refl w) (tk_sound hR hs hQ π _ _ _ hB.2 hE h)

/-! ### The others: each takes over the blocks of what it is made of -/
/-- An operation that is left. -/
def LP (ops : Array Oper) (L0 : Array Bool) (j : Nat) : Prop := j < ops.size ∧ L0.getD j true = false
instance (L0 : Array Bool) (j : Nat) : Decidable (LP ops L0 j) := by unfold LP; exact inferInstance

def okLin (ops : Array Oper) (L0 : Array Bool) (cons : Nat → List Nat) (ds : List (Nat × Tmp)) : Bool :=
  decide (L0.size = ops.size) &&
  ((List.range ops.size).all fun j => match ops[j]? with
    | none => false
    | some o => (o.after.all fun e => !Region.binds .any e || decide (e.on < j)) &&
      (!decide (LP ops L0 j) || (o.guard.isNone &&
        ((cons j).all fun i => decide (ops.size ≤ i) || (decide (LP ops L0 i) && o.after.any fun e => Region.binds .any e && e.on == i)) &&
        ((List.range ops.size).all fun j' => j' == j || !decide (LP ops L0 j') || (cons j).all fun i => !(cons j').contains i) &&
        (match o.dst with | none => true | some t => ds.contains (j, t)))) ) &&
  (ds.all fun p => decide (LP ops L0 p.1) && (ops[p.1]?).any (fun o => o.dst == some p.2) && ds.all fun q => q.1 == p.1 || q.2 != p.2)

/-- What was done of an operation or a thing that was there. -/
def Dn (ops : Array Oper) (L0 listed : Array Bool) (i : Nat) : Prop := ops.size ≤ i ∨ (LP ops L0 i ∧ listed.getD i false = true)
def Lv (ops : Array Oper) (L0 listed : Array Bool) (cons : Nat → List Nat) (i : Nat) : Prop := ∀ j, LP ops L0 j → i ∈ cons j → listed.getD j false = false

structure LinInv (ops : Array Oper) (L0 : Array Bool) (cons : Nat → List Nat) (Φ : Nat → Value → List Nat → World → Prop) (a0 : Act) (w0 : World) (X : Nat → Prop) (listed : Array Bool) (a : Act) (w : World) (g : Nat → Value) (f : Nat → List Nat) : Prop where
  size : listed.size = ops.size
  base : ∀ j, j < ops.size → ¬ LP ops L0 j → listed.getD j false = true
  defers : a.defers = a0.defers
  tsize : a.tmps.size = a0.tmps.size
  slot0 : ∀ t, (∀ j o, LP ops L0 j → listed.getD j false = true → ops[j]? = some o → o.dst ≠ some t) → a.tmps[t]? = a0.tmps[t]?
  slot1 : ∀ j o t, LP ops L0 j → listed.getD j false = true → ops[j]? = some o → o.dst = some t → t < a0.tmps.size → a.tmps[t]? = some (g j)
  live : ∀ i, Dn ops L0 listed i → Lv ops L0 listed cons i → Φ i (g i) (f i) w ∧ ∀ b ∈ f i, b < w.heap.size ∧ (w0.heap.size ≤ b ∨ X b)
  apart : ∀ i i', Dn ops L0 listed i → Lv ops L0 listed cons i → Dn ops L0 listed i' → Lv ops L0 listed cons i' → i ≠ i' → ∀ b ∈ f i, b ∉ f i'
  fx : Fx X w0 w

/-- What an operation leaves. -/
def LinP (cons : Nat → List Nat) (Φ : Nat → Value → List Nat → World → Prop) (j : Nat) (o : Oper) (a : Act) (w : World) (f : Nat → List Nat) (a' : Act) (w' : World) : Prop :=
  ∃ v fs, a' = a.put o.dst v ∧ Φ j v fs w' ∧ (∀ b ∈ fs, b < w'.heap.size ∧ (w.heap.size ≤ b ∨ ∃ i ∈ cons j, b ∈ f i)) ∧ Fx (fun b => ∃ i ∈ cons j, b ∈ f i) w w'

theorem put_tmps_ne (a : Act) (d : Option Tmp) (v : Value) (t : Nat) (h : d ≠ some t) : (a.put d v).tmps[t]? = a.tmps[t]? := by
  cases d with
  | none => rfl
  | some u =>
    simp only [Act.put]
    rw [Array.getElem?_setIfInBounds_ne (fun e => h (by rw [e]))]
theorem put_tmps_eq (a : Act) (v : Value) (t : Nat) (h : t < a.tmps.size) : (a.put (some t) v).tmps[t]? = some v := by
  simp only [Act.put]
  rw [Array.getElem?_setIfInBounds_self_of_lt h]
theorem put_size (a : Act) (d : Option Tmp) (v : Value) : (a.put d v).tmps.size = a.tmps.size := by
  cases d <;> simp [Act.put]
theorem put_dfs (a : Act) (d : Option Tmp) (v : Value) : (a.put d v).defers = a.defers := by
  cases d <;> rfl
theorem getD_set_self {l : Array Bool} {j : Nat} (h : j < l.size) (d : Bool) : (l.setIfInBounds j true).getD j d = true := by
  simp [Array.getD_eq_getD_getElem?, h]

variable {L0 : Array Bool} {cons : Nat → List Nat} {Φ : Nat → Value → List Nat → World → Prop} {a0 : Act} {w0 : World} {X : Nat → Prop} {ds : List (Nat × Tmp)}

/-- All the slots filled. -/
def fillD (a0 : Act) (ds : List (Nat × Tmp)) (g : Nat → Value) : Act := ds.foldl (fun a p => a.put (some p.2) (g p.1)) a0

theorem fillD_size (g : Nat → Value) : ∀ (ds : List (Nat × Tmp)) (a : Act), (fillD a ds g).tmps.size = a.tmps.size ∧ (fillD a ds g).defers = a.defers
  | [], _ => ⟨rfl, rfl⟩
  | p :: ds, a => by
    have := fillD_size g ds (a.put (some p.2) (g p.1))
    rw [put_size, put_dfs] at this
    exact this
theorem fillD_ne (g : Nat → Value) (t : Nat) : ∀ (ds : List (Nat × Tmp)) (a : Act), (∀ p ∈ ds, p.2 ≠ t) → (fillD a ds g).tmps[t]? = a.tmps[t]?
  | [], _, _ => rfl
  | p :: ds, a, h => by
    have := fillD_ne g t ds (a.put (some p.2) (g p.1)) (fun q hq => h q (List.mem_cons_of_mem _ hq))
    rw [put_tmps_ne _ _ _ _ (fun e => h p List.mem_cons_self (Option.some.inj e))] at this
    exact this
theorem fillD_eq (g : Nat → Value) (j t : Nat) : ∀ (ds : List (Nat × Tmp)) (a : Act), t < a.tmps.size → (j, t) ∈ ds → (∀ p ∈ ds, p.2 = t → p.1 = j) → (fillD a ds g).tmps[t]? = some (g j)
  | [], _, _, h, _ => by cases h
  | p :: ds, a, hs, h, hu => by
    show (fillD (a.put (some p.2) (g p.1)) ds g).tmps[t]? = _
    by_cases hm : (j, t) ∈ ds
    · exact fillD_eq g j t ds _ (by rw [put_size]; exact hs) hm (fun q hq => hu q (List.mem_cons_of_mem _ hq))
    · have hp : p = (j, t) := by rcases List.mem_cons.1 h with e | e; exact e.symm; exact absurd e hm
      subst hp
      rw [fillD_ne g t ds _ (fun q hq e => by
        have := hu q (List.mem_cons_of_mem _ hq) e
        obtain ⟨q1, q2⟩ := q
        simp only at this e
        subst this e
        exact hm hq)]
      exact put_tmps_eq _ _ _ hs

structure OkL (ops : Array Oper) (L0 : Array Bool) (cons : Nat → List Nat) (ds : List (Nat × Tmp)) : Prop where
  size : L0.size = ops.size
  lt : ∀ (j : Nat) (o : Oper), ops[j]? = some o → ∀ e ∈ o.after, Region.binds .any e = true → e.on < j
  guard : ∀ (j : Nat) (o : Oper), ops[j]? = some o → LP ops L0 j → o.guard = none
  dep : ∀ (j : Nat) (o : Oper), ops[j]? = some o → LP ops L0 j → ∀ i ∈ cons j, ops.size ≤ i ∨ (LP ops L0 i ∧ ∃ e ∈ o.after, Region.binds .any e = true ∧ e.on = i)
  uniq : ∀ (j j' : Nat), LP ops L0 j → LP ops L0 j' → j' ≠ j → ∀ i ∈ cons j, i ∉ cons j'
  dst : ∀ (j : Nat) (o : Oper) (t : Tmp), ops[j]? = some o → LP ops L0 j → o.dst = some t → (j, t) ∈ ds
  ds1 : ∀ p ∈ ds, LP ops L0 p.1 ∧ ∃ o, ops[p.1]? = some o ∧ o.dst = some p.2
  ds2 : ∀ p ∈ ds, ∀ q ∈ ds, q.2 = p.2 → q.1 = p.1

theorem okLin_spec (h : okLin ops L0 cons ds = true) : OkL ops L0 cons ds := by
  unfold okLin at h
  simp only [Bool.and_eq_true, decide_eq_true_eq, List.all_eq_true, List.mem_range] at h
  obtain ⟨⟨h1, h2⟩, h3⟩ := h
  have get : ∀ (j : Nat) (o : Oper), ops[j]? = some o → _ := fun j o ho => by
    have := h2 j (Array.getElem?_eq_some_iff.1 ho).1
    rw [ho] at this
    simp only [Bool.and_eq_true, Bool.or_eq_true, Bool.not_eq_true', decide_eq_true_eq, decide_eq_false_iff_not, Array.all_eq_true_iff_forall_mem, List.all_eq_true, List.mem_range, Option.isNone_iff_eq_none] at this
    exact this
  refine ⟨h1, fun j o ho e he hb => ?_, fun j o ho hj => ?_, fun j o ho hj i hi => ?_, fun j j' hj hj' hne i hi hi' => ?_, fun j o t ho hj ht => ?_, fun p hp => ?_, fun p hp q hq e => ?_⟩
  · rcases (get j o ho).1 e he with h | h
    · rw [hb] at h; cases h
    · exact h
  · exact ((get j o ho).2.resolve_left (fun h => h hj)).1.1.1
  · rcases ((get j o ho).2.resolve_left (fun h => h hj)).1.1.2 i hi with h | ⟨h, h'⟩
    · exact .inl h
    · obtain ⟨e, he, hb⟩ := Array.any_eq_true'.1 h'
      simp only [Bool.and_eq_true, beq_iff_eq] at hb
      exact .inr ⟨h, e, he, hb.1, hb.2⟩
  · obtain ⟨o, ho⟩ : ∃ o, ops[j]? = some o := ⟨_, Array.getElem?_eq_getElem hj.1⟩
    rcases ((get j o ho).2.resolve_left (fun h => h hj)).1.2 j' hj'.1 with (h | h) | h
    · exact hne (by simpa using h)
    · exact h hj'
    · have := h i hi
      simp at this
      exact this hi'
  · have := ((get j o ho).2.resolve_left (fun h => h hj)).2
    rw [ht] at this
    simpa using this
  · have := h3 p hp
    refine ⟨this.1.1, ?_⟩
    have h4 := this.1.2
    cases ho : ops[p.1]? with
    | none => rw [ho] at h4; simp at h4
    | some o => rw [ho] at h4; exact ⟨o, rfl, by simpa using h4⟩
  · have := (h3 p hp).2 q hq
    simp only [Bool.or_eq_true, beq_iff_eq, bne_iff_ne] at this
    exact this.resolve_right (fun h => h e)

theorem countP_lt {p q : Nat → Bool} {j : Nat} (hpq : ∀ i, q i = true → p i = true) (hp : p j = true) (hq : q j = false) : ∀ l : List Nat, j ∈ l → l.countP q < l.countP p
  | [], h => by cases h
  | x :: l, h => by
    have hle : l.countP q ≤ l.countP p := List.countP_mono_left (fun i _ => hpq i)
    rw [List.countP_cons, List.countP_cons]
    by_cases hx : x = j
    · subst hx
      rw [hp, hq]
      simp
      omega
    · have hm : j ∈ l := by rcases List.mem_cons.1 h with e | e; exact absurd e.symm hx; exact e
      have := countP_lt hpq hp hq l hm
      cases hqx : q x with
      | true => rw [hpq x hqx]; simp; omega
      | false => simp; omega

theorem all_listed (ok : OkL ops L0 cons ds) {listed : Array Bool} (hs : listed.size = ops.size) (hr : Region.ready .any ops listed = []) : ∀ n j, j < n → j < ops.size → listed.getD j false = true
  | 0, _, h, _ => absurd h (Nat.not_lt_zero _)
  | n + 1, j, hj, hlt => by
    refine Decidable.byContradiction fun hh => ?_
    obtain ⟨o, ho⟩ : ∃ o, ops[j]? = some o := ⟨_, Array.getElem?_eq_getElem hlt⟩
    have hm : j ∈ Region.ready .any ops listed := by
      refine mem_ready.2 ⟨?_, o, ho, fun e he hb => ?_⟩
      · have hl : j < listed.size := by omega
        simp [Array.getD_eq_getD_getElem?, hl] at hh ⊢
        exact hh
      · have := ok.lt j o ho e he hb
        exact all_listed ok hs hr n e.on (by omega) (by omega)
    rw [hr] at hm
    cases hm

theorem act_ext {a b : Act} (h1 : ∀ t : Nat, a.tmps[t]? = b.tmps[t]?) (h2 : a.defers = b.defers) : a = b := by
  cases a; cases b
  simp only at h1 h2
  subst h2
  congr 1
  exact Array.ext_getElem? h1

theorem lin_sound (ok : OkL ops L0 cons ds)
    (hstab : ∀ i v fs w w', Φ i v fs w → (∀ b ∈ fs, w'.heap[b]? = w.heap[b]?) → w.heap.size ≤ w'.heap.size → Fx X w0 w → Fx X w0 w' → Φ i v fs w')
    (hstep : ∀ (j : Nat) (o : Oper) (a : Act) (w : World) (g : Nat → Value) (f : Nat → List Nat), ops[j]? = some o → LP ops L0 j → (∀ t : Nat, (∀ p ∈ ds, p.2 ≠ t) → a.tmps[t]? = a0.tmps[t]?) → (∀ i ∈ cons j, ∀ t : Nat, (i, t) ∈ ds → t < a0.tmps.size → a.tmps[t]? = some (g i)) →
      (∀ i ∈ cons j, Φ i (g i) (f i) w) → (∀ i ∈ cons j, ∀ b ∈ f i, b < w.heap.size ∧ (w0.heap.size ≤ b ∨ X b)) → (∀ i ∈ cons j, ∀ i' ∈ cons j, i ≠ i' → ∀ b ∈ f i, b ∉ f i') → Fx X w0 w → Oper.wp P o a w (LinP cons Φ j o a w f) Q)
    (hend : ∀ (w : World) (g : Nat → Value) (f : Nat → List Nat), (∀ i, (ops.size ≤ i ∨ LP ops L0 i) → (∀ j, LP ops L0 j → i ∉ cons j) → Φ i (g i) (f i) w ∧ ∀ b ∈ f i, b < w.heap.size ∧ (w0.heap.size ≤ b ∨ X b)) → Fx X w0 w → Q .normal (fillD a0 ds g) w) :
    ∀ (n : Nat) (listed : Array Bool) (a : Act) (w : World) (g : Nat → Value) (f : Nat → List Nat), LinInv ops L0 cons Φ a0 w0 X listed a w g f → (List.range ops.size).countP (fun j => !listed.getD j true) ≤ n → wpAnyH P .any ops Q (Fx X w0) n listed a w := by
  have fin : ∀ (listed : Array Bool) (a : Act) (w : World) (g : Nat → Value) (f : Nat → List Nat), LinInv ops L0 cons Φ a0 w0 X listed a w g f → Region.ready .any ops listed = [] → Q .normal a w := fun listed a w g f hI hr => by
    have hall := fun j hj => all_listed ok hI.size hr ops.size j hj hj
    have e : a = fillD a0 ds g := by
      refine act_ext (fun t => ?_) (by rw [hI.defers, (fillD_size g ds a0).2])
      by_cases hp : ∃ p ∈ ds, p.2 = t
      · obtain ⟨⟨j, t'⟩, hp, rfl⟩ := hp
        obtain ⟨hj, o, ho, hd⟩ := ok.ds1 _ hp
        by_cases ht : t' < a0.tmps.size
        · rw [hI.slot1 j o t' hj (hall j hj.1) ho hd ht]
          exact (fillD_eq g j t' ds a0 ht hp (fun q hq he => ok.ds2 _ hp q hq he)).symm
        · rw [Array.getElem?_eq_none (by rw [hI.tsize]; exact Nat.not_lt.1 ht), Array.getElem?_eq_none (by rw [(fillD_size g ds a0).1]; exact Nat.not_lt.1 ht)]
      · have hp' : ∀ p ∈ ds, p.2 ≠ t := fun p hm he => hp ⟨p, hm, he⟩
        rw [fillD_ne g t ds a0 hp', hI.slot0 t (fun j o hj _ ho hd => hp' _ (ok.dst j o t ho hj hd) rfl)]
    rw [e]
    exact hend w g f (fun i hi hc => hI.live i (hi.imp id fun h => ⟨h, hall i h.1⟩) (fun j hj hm => absurd hm (hc j hj))) hI.fx
  intro n
  induction n with
  | zero =>
    intro listed a w g f hI hc
    have hr : Region.ready .any ops listed = [] := by
      refine List.eq_nil_iff_forall_not_mem.2 fun j hj => ?_
      obtain ⟨h1, o, ho, _⟩ := mem_ready.1 hj
      have : 0 < (List.range ops.size).countP (fun j => !listed.getD j true) := List.countP_pos_iff.2 ⟨j, List.mem_range.2 (Array.getElem?_eq_some_iff.1 ho).1, by simp [h1]⟩
      omega
    exact ⟨hr, fin listed a w g f hI hr⟩
  | succ n ih =>
    intro listed a w g f hI hc
    refine ⟨fun hr => fin listed a w g f hI hr, fun j hj => ?_⟩
    obtain ⟨h1, o, ho, hdep⟩ := mem_ready.1 hj
    have hlt : j < ops.size := (Array.getElem?_eq_some_iff.1 ho).1
    have hl : j < listed.size := by rw [hI.size]; exact hlt
    have h1' : listed.getD j false = false := by
      simp [Array.getD_eq_getD_getElem?, hl] at h1 ⊢
      exact h1
    have hLP : LP ops L0 j := Decidable.byContradiction fun hh => by
      have := hI.base j hlt hh
      rw [h1'] at this; cases this
    have hdn : ∀ i ∈ cons j, Dn ops L0 listed i := fun i hi => by
      rcases ok.dep j o ho hLP i hi with h | ⟨h, e, he, hb, rfl⟩
      · exact .inl h
      · exact .inr ⟨h, hdep e he hb⟩
    have hlv : ∀ i ∈ cons j, Lv ops L0 listed cons i := fun i hi j' hj' hi' => by
      by_cases hjj : j' = j
      · subst hjj; exact h1'
      · exact absurd hi' (ok.uniq j j' hLP hj' hjj i hi)
    have hst := hstep j o a w g f ho hLP (fun t hp => hI.slot0 t (fun j o hj _ ho hd => hp _ (ok.dst j o t ho hj hd) rfl))
      (fun i hi t hp ht => by
        obtain ⟨hi1, o', ho', hd'⟩ := ok.ds1 _ hp
        rcases hdn i hi with h | h
        · exact absurd hi1.1 (by simp only at *; omega)
        · exact hI.slot1 i o' t h.1 h.2 ho' hd' ht)
      (fun i hi => (hI.live i (hdn i hi) (hlv i hi)).1) (fun i hi => (hI.live i (hdn i hi) (hlv i hi)).2)
      (fun i hi i' hi' hne => hI.apart i i' (hdn i hi) (hlv i hi) (hdn i' hi') (hlv i' hi') hne) hI.fx
    unfold wpOp
    simp only [ho]
    have hw : Region.wanted o (yielded ops a.tmps) = true := by simp [Region.wanted, ok.guard j o ho hLP]
    rw [if_pos hw]
    refine .inl (Oper.wp_mono (fun a' w' hP => ?_) hst)
    obtain ⟨v, fs, rfl, hΦ, hfs, hfx⟩ := hP
    have hfx' : Fx X w0 w' := by
      refine ⟨hfx.os.trans hI.fx.os, hfx.tape.trans hI.fx.tape, hfx.output.trans hI.fx.output, Nat.le_trans hI.fx.size hfx.size, fun k hk hX => ?_⟩
      have := hI.fx.size
      rw [hfx.block k (by omega) (fun ⟨i, hi, hb⟩ => by
        rcases ((hI.live i (hdn i hi) (hlv i hi)).2 k hb).2 with h | h
        · omega
        · exact hX h), hI.fx.block k hk hX]
    refine ⟨hfx', ih _ _ _ (fun i => if i = j then v else g i) (fun i => if i = j then fs else f i) ?_ ?_⟩
    · have hset : ∀ i, i ≠ j → (listed.setIfInBounds j true).getD i false = listed.getD i false := fun i hi => getD_set_ne false (fun e => hi e.symm)
      have hsj : (listed.setIfInBounds j true).getD j false = true := getD_set_self hl false
      have hdn' : ∀ i, i ≠ j → Dn ops L0 (listed.setIfInBounds j true) i → Dn ops L0 listed i := fun i hi h => h.imp id fun h => ⟨h.1, by rw [← hset i hi]; exact h.2⟩
      have hlv' : ∀ i, Lv ops L0 (listed.setIfInBounds j true) cons i → i ∉ cons j ∧ Lv ops L0 listed cons i := fun i h => by
        have hn : i ∉ cons j := fun hm => by have := h j hLP hm; rw [hsj] at this; cases this
        refine ⟨hn, fun j' hj' hm => ?_⟩
        by_cases hjj : j' = j
        · subst hjj; exact absurd hm hn
        · rw [← hset j' hjj]; exact h j' hj' hm
      have old : ∀ i, i ≠ j → Dn ops L0 (listed.setIfInBounds j true) i → Lv ops L0 (listed.setIfInBounds j true) cons i → Φ i (g i) (f i) w' ∧ (∀ b ∈ f i, b < w.heap.size ∧ (w0.heap.size ≤ b ∨ X b)) ∧ ∀ b ∈ f i, ∀ i' ∈ cons j, b ∉ f i' := fun i hi hd hv => by
        have hd1 := hdn' i hi hd
        obtain ⟨hn, hv1⟩ := hlv' i hv
        have hL := hI.live i hd1 hv1
        have hap : ∀ b ∈ f i, ∀ i' ∈ cons j, b ∉ f i' := fun b hb i' hi' => hI.apart i i' hd1 hv1 (hdn i' hi') (hlv i' hi') (fun e => hn (by rw [e]; exact hi')) b hb
        exact ⟨hstab i _ _ w w' hL.1 (fun b hb => hfx.block b (hL.2 b hb).1 (fun ⟨i', hi', hb'⟩ => hap b hb i' hi' hb')) hfx.size hI.fx hfx', hL.2, hap⟩
      refine ⟨by rw [Array.size_setIfInBounds]; exact hI.size, fun i hi hn => ?_, by rw [put_dfs]; exact hI.defers, by rw [put_size]; exact hI.tsize, fun t ht => ?_, fun i o' t hi hli ho' hd ht => ?_, fun i hd hv => ?_, fun i i' hd hv hd' hv' hne b hb => ?_, hfx'⟩
      · have hij : i ≠ j := fun e => hn (by rw [e]; exact hLP)
        rw [hset i hij]; exact hI.base i hi hn
      · rw [put_tmps_ne _ _ _ _ (ht j o hLP hsj ho)]
        refine hI.slot0 t fun i o' hi hli ho' => ?_
        by_cases hij : i = j
        · subst hij; rw [h1'] at hli; cases hli
        · exact ht i o' hi (by rw [hset i hij]; exact hli) ho'
      · by_cases hij : i = j
        · subst hij
          rw [ho] at ho'; injection ho' with e; subst e
          rw [if_pos rfl, hd]
          exact put_tmps_eq _ _ _ (by rw [hI.tsize]; exact ht)
        · rw [if_neg hij, put_tmps_ne _ _ _ _ (fun e => hij (ok.ds2 _ (ok.dst j o t ho hLP e) _ (ok.dst i o' t ho' hi hd) rfl))]
          exact hI.slot1 i o' t hi (by rw [← hset i hij]; exact hli) ho' hd ht
      · by_cases hij : i = j
        · subst hij
          rw [if_pos rfl, if_pos rfl]
          refine ⟨hΦ, fun b hb => ?_⟩
          obtain ⟨h2, h3⟩ := hfs b hb
          refine ⟨h2, ?_⟩
          rcases h3 with h3 | ⟨i', hi', hb'⟩
          · exact .inl (Nat.le_trans hI.fx.size h3)
          · exact ((hI.live i' (hdn i' hi') (hlv i' hi')).2 b hb').2
        · rw [if_neg hij, if_neg hij]
          obtain ⟨q1, q2, _⟩ := old i hij hd hv
          exact ⟨q1, fun b hb => ⟨Nat.lt_of_lt_of_le (q2 b hb).1 hfx.size, (q2 b hb).2⟩⟩
      · by_cases hij : i = j
        · have hij' : i' ≠ j := fun e => hne (hij.trans e.symm)
          rw [if_pos hij] at hb
          rw [if_neg hij']
          obtain ⟨_, q2, q3⟩ := old i' hij' hd' hv'
          intro hb'
          rcases (hfs b hb).2 with h3 | ⟨i0, hi0, hb0⟩
          · have := (q2 b hb').1; omega
          · exact q3 b hb' i0 hi0 hb0
        · rw [if_neg hij] at hb
          obtain ⟨_, q2, q3⟩ := old i hij hd hv
          by_cases hij' : i' = j
          · rw [if_pos hij']
            intro hb'
            rcases (hfs b hb').2 with h3 | ⟨i0, hi0, hb0⟩
            · have := (q2 b hb).1; omega
            · exact q3 b hb i0 hi0 hb0
          · rw [if_neg hij']
            exact hI.apart i i' (hdn' i hij hd) (hlv' i hv).2 (hdn' i' hij' hd') (hlv' i' hv').2 hne b hb
    · have := countP_lt (p := fun i => !listed.getD i true) (q := fun i => !(listed.setIfInBounds j true).getD i true) (j := j) (fun i hi => by
        by_cases hij : j = i
        · subst hij; rw [getD_set_self hl true] at hi; cases hi
        · rw [getD_set_ne true hij] at hi; exact hi) (by show (!listed.getD j true) = true; rw [h1]; rfl) (by show (!(listed.setIfInBounds j true).getD j true) = false; rw [getD_set_self hl true]; rfl) (List.range ops.size) (List.mem_range.2 hlt)
      omega

/-- THE BEGINNING: π: what only computes or reads, taken first; behind it 'lin_go'. -/
theorem wp_region_lin (X : Nat → Prop) (π : List Nat) {id : Nat} {a : Act} {w : World} (hm : P.follows .mixedOrders = true)
    (hB : (Region.noSelect ops && okTk ops π (Array.replicate ops.size false) && decide (π.length ≤ ops.size)) = true)
    (hQ : ∀ c a d v w, Q (.panic c) (Act.put a d v) w → Q (.panic c) a w)
    (h : wpTk (Fx X) P ops (fun a w => wpAnyH P .any ops Q (Fx X w) (ops.size - π.length) (tkEnd π (Array.replicate ops.size false)) a w) π a w.drew) : (Code.region id ops true).wp P Q a w := by
  simp only [Bool.and_eq_true, decide_eq_true_eq] at hB
  refine wp_region_held (S := Fx X w.drew) hm ?_
  have := tk_sound (n := ops.size - π.length) (kept_fx X) hB.1.1 hQ π _ a w.drew hB.1.2 (fun _ _ h => h) h
  rw [Nat.add_sub_cancel' hB.2] at this
  exact this

theorem tk_take {R : World → World → Prop} {E : Act → World → Prop} {i : Nat} {π : List Nat} {a : Act} {w : World} {o : Oper} {v : Value} (ho : opAt i ops.toList = some o) (hw : Region.wanted o (yielded ops a.tmps) = true)
    (hv : ∀ w', R w w' → (execOp a.eval o).run P w' = .ok (.value v) w') (h : wpTk R P ops E π (a.put o.dst v) w) : wpTk R P ops E (i :: π) a w :=
  ⟨o, opAt_get ho, by rw [if_pos hw]; exact ⟨v, hv, h⟩⟩
theorem tk_done {R : World → World → Prop} {E : Act → World → Prop} {a : Act} {w : World} (h : E a w) : wpTk R P ops E [] a w := h

/-- The others, in whatever order. js: which they are. -/
theorem lin_go {n : Nat} (js : List Nat) (cons : Nat → List Nat) (ds : List (Nat × Tmp)) (Φ : Nat → Value → List Nat → World → Prop) (g0 : Nat → Value) (f0 : Nat → List Nat)
    (hB : (okLin ops L0 cons ds && decide ((List.range ops.size).countP (fun j => !L0.getD j true) ≤ n) && (List.range ops.size).all fun j => !decide (LP ops L0 j) || js.contains j) = true)
    (hres : ∀ i, ops.size ≤ i → Φ i (g0 i) (f0 i) w0 ∧ ∀ b ∈ f0 i, b < w0.heap.size ∧ X b)
    (hapart : ∀ i i', ops.size ≤ i → ops.size ≤ i' → i ≠ i' → ∀ b ∈ f0 i, b ∉ f0 i')
    (hstab : ∀ i v fs w w', Φ i v fs w → (∀ b ∈ fs, w'.heap[b]? = w.heap[b]?) → w.heap.size ≤ w'.heap.size → Fx X w0 w → Fx X w0 w' → Φ i v fs w')
    (hstep : ∀ j ∈ js, ∃ o, opAt j ops.toList = some o ∧ ∀ (a : Act) (w : World) (g : Nat → Value) (f : Nat → List Nat), (∀ t : Nat, (∀ p ∈ ds, p.2 ≠ t) → a.tmps[t]? = a0.tmps[t]?) → (∀ i ∈ cons j, ∀ t : Nat, (i, t) ∈ ds → t < a0.tmps.size → a.tmps[t]? = some (g i)) →
      (∀ i ∈ cons j, Φ i (g i) (f i) w) → (∀ i ∈ cons j, ∀ b ∈ f i, b < w.heap.size ∧ (w0.heap.size ≤ b ∨ X b)) → (∀ i ∈ cons j, ∀ i' ∈ cons j, i ≠ i' → ∀ b ∈ f i, b ∉ f i') → Fx X w0 w → Oper.wp P o a w (LinP cons Φ j o a w f) Q)
    (hend : ∀ (w : World) (g : Nat → Value) (f : Nat → List Nat), (∀ i, (ops.size ≤ i ∨ LP ops L0 i) → (∀ j, LP ops L0 j → i ∉ cons j) → Φ i (g i) (f i) w ∧ ∀ b ∈ f i, b < w.heap.size ∧ (w0.heap.size ≤ b ∨ X b)) → Fx X w0 w → Q .normal (fillD a0 ds g) w) :
    wpAnyH P .any ops Q (Fx X w0) n L0 a0 w0 := by
  simp only [Bool.and_eq_true, decide_eq_true_eq] at hB
  obtain ⟨⟨h1, h2⟩, h3⟩ := hB
  have ok := okLin_spec h1
  have no : ∀ i, LP ops L0 i → L0.getD i false = true → False := fun i hi hl => by
    have h := hi.2
    have hs : i < L0.size := by rw [ok.size]; exact hi.1
    simp only [Array.getD_eq_getD_getElem?, Array.getElem?_eq_getElem hs, Option.getD_some] at h hl
    rw [h] at hl; cases hl
  refine lin_sound ok hstab (fun j o a w g f ho hj k1 k2 k3 k4 k5 k6 => ?_) hend n L0 a0 w0 g0 f0 ?_ h2
  · have hm : j ∈ js := by
      have := List.all_eq_true.1 h3 j (List.mem_range.2 hj.1)
      simp only [Bool.or_eq_true, Bool.not_eq_true', decide_eq_false_iff_not] at this
      simpa using this.resolve_left (fun h => h hj)
    obtain ⟨o', ho', hs⟩ := hstep j hm
    have := opAt_get ho'
    rw [ho] at this
    injection this with e
    subst e
    exact hs a w g f k1 k2 k3 k4 k5 k6
  · refine ⟨ok.size, fun j hj hn => ?_, rfl, rfl, fun _ _ => rfl, fun j _ _ hj hl => (no j hj hl).elim, fun i hd _ => ?_, fun i i' hd _ hd' _ hne => ?_, Fx.refl _ _⟩
    · have hs : j < L0.size := by rw [ok.size]; exact hj
      have : ¬ L0.getD j true = false := fun h => hn ⟨hj, h⟩
      simp only [Array.getD_eq_getD_getElem?, Array.getElem?_eq_getElem hs, Option.getD_some, Bool.not_eq_false] at this ⊢
      exact this
    · rcases hd with hd | hd
      · have := hres i hd
        exact ⟨this.1, fun b hb => ⟨(this.2 b hb).1, .inr (this.2 b hb).2⟩⟩
      · exact (no i hd.1 hd.2).elim
    · rcases hd with hd | hd
      · rcases hd' with hd' | hd'
        · exact hapart i i' hd hd' hne
        · exact (no i' hd'.1 hd'.2).elim
      · exact (no i hd.1 hd.2).elim

end
attribute [irreducible] wpTk
end Go.Proofs.YtipemmjbgegmfaaGreatDoor
