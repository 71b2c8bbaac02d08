/- The state of a scan, plain: byte by byte, and of all bytes at once. No program is met here. -/
import Derived.Test.YtdkegfookbgicaaOpn
namespace Go.Proofs.Ytdkegfookbgicaa.U

structure St where
  seen : Int
  bad : Int
  pend : List UInt8

def St.new : St := ⟨0, -1, []⟩

/-- The next byte. -/
def St.step (s : St) (x : UInt8) : St :=
  if 0 ≤ s.bad then ⟨s.seen + 1, s.bad, s.pend⟩
  else if 0 < (one (s.pend ++ [x])).2 then ⟨s.seen + 1, s.bad, []⟩
  else if opn (s.pend ++ [x]) then ⟨s.seen + 1, s.bad, s.pend ++ [x]⟩
  else ⟨s.seen + 1, s.seen + 1 - (s.pend ++ [x]).length, []⟩
def St.go (s : St) (l : List UInt8) : St := l.foldl St.step s

/-- The state behind all bytes. -/
def St.of (l : List UInt8) : St :=
  if 0 ≤ fault l then (if opn (l.drop (fault l).toNat) then ⟨l.length, -1, l.drop (fault l).toNat⟩ else ⟨l.length, fault l, []⟩)
  else ⟨l.length, -1, []⟩

/-- What a scan may tell. -/
structure St.ok (s : St) : Prop where
  seen0 : 0 ≤ s.seen
  seen1 : s.seen ≤ 1099511627776
  bad0 : -1 ≤ s.bad
  bad1 : s.bad < s.seen ∨ s.bad = -1
  pend : s.pend = [] ∨ (opn s.pend ∧ (s.pend.length : Int) ≤ s.seen ∧ s.bad = -1)

def St.end (s : St) : Int := if s.pend = [] then s.bad else s.seen - s.pend.length

/-- The place of the first fault cuts the bytes into right ones and others. -/
theorem fault_cut {l : List UInt8} (h : 0 ≤ fault l) : ∃ cs, Cps cs ∧ l = encs cs ++ l.drop (fault l).toNat ∧ ((encs cs).length : Int) = fault l ∧ (one (l.drop (fault l).toNat)).2 = 0 ∧ l.drop (fault l).toNat ≠ [] := by
  obtain ⟨cs, r, hcs, hl, hr⟩ := split l
  have hf := fault_at hcs hr
  rw [← hl] at hf
  by_cases h0 : r = []
  · rw [if_pos h0] at hf; omega
  · rw [if_neg h0] at hf
    have hd : l.drop (fault l).toNat = r := by
      rw [hf, Int.toNat_natCast]
      conv => lhs; rw [hl]
      rw [List.drop_left]
    rw [hd]
    exact ⟨cs, hcs, hl, by omega, hr, h0⟩

theorem fault_one {cs : List Nat} (h : Cps cs) {q : List UInt8} (hq : q ≠ []) (h0 : (one q).2 = 0) : fault (encs cs ++ q) = (encs cs).length := by
  rw [fault_at h h0, if_neg hq]
theorem fault_whole {cs : List Nat} (h : Cps cs) {q : List UInt8} (h0 : 0 < (one q).2) (h1 : (one q).2 = q.length) : fault (encs cs ++ q) = -1 := by
  obtain ⟨h2, h3, h4⟩ := one_spec (l := q) (by omega)
  have : q = encs [(one q).1] := by
    rw [h1, List.drop_length, List.append_nil] at h4
    rw [encs_cons, encs_nil, List.append_nil]
    exact h4
  rw [this, ← encs_append]
  exact fault_encs (h.append (fun x hx => by simp at hx; subst hx; exact h2))

theorem drop_fault {cs : List Nat} {q l : List UInt8} (hl : l = encs cs ++ q) (hf : fault l = (encs cs).length) : l.drop (fault l).toNat = q := by
  rw [hf, Int.toNat_natCast, hl, List.drop_left]

theorem St.of_right {l : List UInt8} (h : fault l = -1) : St.of l = ⟨l.length, -1, []⟩ := by
  unfold St.of; rw [if_neg (by omega)]
theorem St.of_open {cs : List Nat} {q l : List UInt8} (hl : l = encs cs ++ q) (hf : fault l = (encs cs).length) (h : opn q) : St.of l = ⟨l.length, -1, q⟩ := by
  unfold St.of; rw [if_pos (by omega), drop_fault hl hf, if_pos h]
theorem St.of_bad {cs : List Nat} {q l : List UInt8} (hl : l = encs cs ++ q) (hf : fault l = (encs cs).length) (h : ¬ opn q) : St.of l = ⟨l.length, (encs cs).length, []⟩ := by
  unfold St.of; rw [if_pos (by omega), drop_fault hl hf, if_neg h, hf]

/-- What becomes of right bytes with others behind them, when one comes. -/
theorem St.of_next {cs : List Nat} (h : Cps cs) {q : List UInt8} (hq : q = [] ∨ opn q) (x : UInt8) :
    (⟨(encs cs ++ q).length, -1, q⟩ : St).step x = St.of (encs cs ++ (q ++ [x])) := by
  have hne : q ++ [x] ≠ [] := by simp
  unfold St.step
  rw [if_neg (show ¬ (0 : Int) ≤ -1 by decide)]
  by_cases h1 : 0 < (one (q ++ [x])).2
  · rw [if_pos h1]
    have hw : (one (q ++ [x])).2 = (q ++ [x]).length := by
      have hle := one_le (q ++ [x])
      refine Decidable.byContradiction fun hh => ?_
      rw [List.length_append, List.length_singleton] at hle hh
      have hc := one_cut (l := q) (r := [x]) (by omega) (by omega)
      rcases hq with rfl | hq
      · rw [one_nil] at hc; rw [← hc] at h1; exact absurd h1 (by decide)
      · have := opn_one hq; rw [hc] at this; omega
    rw [St.of_right (fault_whole h h1 hw)]
    simp only [List.length_append, List.length_singleton]
    congr 1
  · rw [if_neg h1]
    have hf := fault_one h hne (by omega)
    by_cases h2 : opn (q ++ [x])
    · rw [if_pos h2, St.of_open rfl hf h2]
      simp only [List.length_append, List.length_singleton]
      congr 1
    · rw [if_neg h2, St.of_bad rfl hf h2]
      simp only [List.length_append, List.length_singleton]
      congr 1
      omega

theorem St.step_of (l : List UInt8) (x : UInt8) : (St.of l).step x = St.of (l ++ [x]) := by
  by_cases h0 : 0 ≤ fault l
  · obtain ⟨cs, hcs, hl, hf, h1, hne⟩ := fault_cut h0
    generalize hq : l.drop (fault l).toNat = q at *
    by_cases ho : opn q
    · rw [St.of_open hl hf.symm ho, hl, St.of_next hcs (.inr ho), List.append_assoc]
    · have hno : ∀ t, ¬ (t ≠ [] ∧ (one (q ++ t)).2 = (q ++ t).length) := fun t ht => ho ⟨hne, t, ht⟩
      have h2 : (one (q ++ [x])).2 = 0 := by
        refine Decidable.byContradiction fun hh => ?_
        have hle := one_le (q ++ [x])
        by_cases hc : (one (q ++ [x])).2 ≤ q.length
        · have := one_cut hh hc
          rw [this] at h1; omega
        · refine hno [x] ⟨by simp, ?_⟩
          rw [List.length_append, List.length_singleton] at *
          omega
      have ho2 : ¬ opn (q ++ [x]) := by
        rintro ⟨_, t, ht, hh⟩
        refine hno ([x] ++ t) ⟨by simp, ?_⟩
        rw [← List.append_assoc]; exact hh
      have hf2 : fault (encs cs ++ (q ++ [x])) = (encs cs).length := fault_one hcs (by simp) h2
      rw [St.of_bad hl hf.symm ho]
      have e : l ++ [x] = encs cs ++ (q ++ [x]) := by conv => lhs; rw [hl]
                                                      rw [List.append_assoc]
      rw [e, St.of_bad rfl hf2 ho2]
      unfold St.step
      rw [if_pos (by simp), ← e]
      simp only [List.length_append, List.length_singleton]
      congr 1
  · have hr : fault l = -1 := by have := fault_ge l; omega
    obtain ⟨cs, hcs, rfl⟩ := right_of (l := l) (by omega)
    have := St.of_next hcs (q := []) (.inl rfl) x
    rw [List.append_nil] at this
    rw [St.of_right hr, this]; rfl

theorem St.go_nil (s : St) : s.go [] = s := rfl
theorem St.go_cons (s : St) (x : UInt8) (l : List UInt8) : s.go (x :: l) = (s.step x).go l := rfl
theorem St.go_append (s : St) (l m : List UInt8) : s.go (l ++ m) = (s.go l).go m := by simp [St.go]
theorem St.go_take (s : St) (l : List UInt8) (p : Nat) (h : p < l.length) : s.go (l.take (p + 1)) = (s.go (l.take p)).step l[p] := by
  rw [List.take_succ_eq_append_getElem h, St.go_append]; rfl

theorem St.of_nil : St.of [] = St.new := rfl
theorem St.of_go (l m : List UInt8) : (St.of l).go m = St.of (l ++ m) := by
  induction m generalizing l with
  | nil => rw [List.append_nil]; rfl
  | cons x m ih => rw [St.go_cons, St.step_of, ih, List.append_assoc]; rfl
theorem St.new_go (l : List UInt8) : St.new.go l = St.of l := by rw [← St.of_nil, St.of_go]; rfl

theorem St.step_seen (s : St) (x : UInt8) : (s.step x).seen = s.seen + 1 := by
  unfold St.step; repeat' split
  all_goals rfl
theorem St.step_pend {s : St} (h : s.pend.length ≤ 3) (x : UInt8) : (s.step x).pend.length ≤ 3 := by
  unfold St.step
  split
  · exact h
  · split
    · exact Nat.zero_le _
    · split
      · rename_i h; exact (opn_len h).2
      · exact Nat.zero_le _
theorem St.go_seen (s : St) (l : List UInt8) : (s.go l).seen = s.seen + l.length := by
  induction l generalizing s with
  | nil => simp [St.go]
  | cons x l ih => rw [St.go_cons, ih, St.step_seen, List.length_cons]; omega
theorem St.go_pend {s : St} (h : s.pend.length ≤ 3) (l : List UInt8) : (s.go l).pend.length ≤ 3 := by
  induction l generalizing s with
  | nil => exact h
  | cons x l ih => rw [St.go_cons]; exact ih (St.step_pend h x)

end Go.Proofs.Ytdkegfookbgicaa.U
