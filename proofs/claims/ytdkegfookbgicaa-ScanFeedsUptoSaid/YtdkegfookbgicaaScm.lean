/- More of a scan's state, plain. No program is met here. -/
import Derived.Test.YtdkegfookbgicaaScn
namespace Go.Proofs.Ytdkegfookbgicaa.U

theorem St.step_bad {s : St} (h : 0 ≤ s.bad) (x : UInt8) : (s.step x).bad = s.bad ∧ (s.step x).pend = s.pend := by
  unfold St.step; rw [if_pos h]; exact ⟨rfl, rfl⟩
theorem St.go_bad {s : St} (h : 0 ≤ s.bad) (l : List UInt8) : (s.go l).bad = s.bad ∧ (s.go l).pend = s.pend := by
  induction l generalizing s with
  | nil => exact ⟨rfl, rfl⟩
  | cons x l ih =>
    have h1 := St.step_bad h x
    have h2 := ih (s := s.step x) (by omega)
    rw [St.go_cons, h2.1, h2.2]
    exact h1
theorem St.of_seen (l : List UInt8) : (St.of l).seen = l.length := by
  unfold St.of; repeat' split
  all_goals rfl
theorem St.of_fault {l : List UInt8} (h : 0 ≤ (St.of l).bad) : (St.of l).bad = fault l ∧ (St.of l).pend = [] := by
  revert h
  unfold St.of
  split
  · split
    · intro h; exact absurd h (show ¬ (0 : Int) ≤ -1 by decide)
    · intro _; exact ⟨rfl, rfl⟩
  · intro h; exact absurd h (show ¬ (0 : Int) ≤ -1 by decide)
theorem St.of_pend (l : List UInt8) : (St.of l).pend.length ≤ 3 := by rw [← St.new_go]; exact St.go_pend (by decide) l
theorem St.of_end (l : List UInt8) : (St.of l).end = fault l := by
  by_cases h0 : 0 ≤ fault l
  · obtain ⟨cs, _, hl, hf, _, hne⟩ := fault_cut h0
    by_cases ho : opn (l.drop (fault l).toNat)
    · rw [St.of_open hl hf.symm ho]
      unfold St.end
      rw [if_neg hne]
      have := congrArg List.length hl
      rw [List.length_append] at this
      simp only
      omega
    · rw [St.of_bad hl hf.symm ho]
      exact hf
  · have hr : fault l = -1 := by have := fault_ge l; omega
    rw [St.of_right hr, hr]; rfl
theorem St.of_bad_lt (l : List UInt8) : -1 ≤ (St.of l).bad ∧ ((St.of l).bad < l.length ∨ (St.of l).bad = -1) := by
  by_cases h : 0 ≤ (St.of l).bad
  · have h1 := (St.of_fault h).1
    rw [h1] at h
    obtain ⟨cs, _, hl, hf, _, hne⟩ := fault_cut h
    have := congrArg List.length hl
    rw [List.length_append] at this
    have := List.length_pos_iff.2 hne
    omega
  · revert h
    unfold St.of
    split
    · split
      · intro _; exact ⟨Int.le_refl _, .inr rfl⟩
      · rename_i h0 _; intro h; exact absurd h0 h
    · intro _; exact ⟨Int.le_refl _, .inr rfl⟩
/-- What is told of bytes may be gone on from. -/
theorem St.of_ok {l : List UInt8} (h : (l.length : Int) ≤ 1099511627776) : (St.of l).ok := by
  have h1 := St.of_bad_lt l
  refine ⟨by rw [St.of_seen]; omega, by rw [St.of_seen]; exact h, h1.1, by rw [St.of_seen]; exact h1.2, ?_⟩
  unfold St.of
  split
  · split
    · rename_i ho
      exact .inr ⟨ho, by simp only [List.length_drop]; omega, rfl⟩
    · exact .inl rfl
  · exact .inl rfl

/-- A state so many bytes further on. -/
def St.shift (k : Int) (s : St) : St := ⟨s.seen + k, if 0 ≤ s.bad then s.bad + k else s.bad, s.pend⟩
theorem St.step_shift {k : Int} (hk : 0 ≤ k) {s : St} (h : (s.pend.length : Int) ≤ s.seen) (x : UInt8) : (s.shift k).step x = (s.step x).shift k := by
  unfold St.step
  by_cases hb : 0 ≤ s.bad
  · have : 0 ≤ (s.shift k).bad := by unfold St.shift; rw [if_pos hb]; simp only; omega
    rw [if_pos this, if_pos hb]
    unfold St.shift
    simp only [if_pos hb]
    congr 1; omega
  · have : ¬ 0 ≤ (s.shift k).bad := by unfold St.shift; rw [if_neg hb]; exact hb
    rw [if_neg this, if_neg hb]
    show (if 0 < (one (s.pend ++ [x])).2 then _ else if opn (s.pend ++ [x]) then _ else _) = _
    split
    · unfold St.shift; simp only [if_neg hb]; congr 1; omega
    · split
      · unfold St.shift; simp only [if_neg hb]; congr 1; omega
      · have h2 : (0 : Int) ≤ s.seen + 1 - ((s.pend ++ [x]).length : Nat) := by rw [List.length_append, List.length_singleton]; omega
        unfold St.shift
        simp only [if_pos h2]
        congr 1 <;> omega
theorem St.of_pend_le (l : List UInt8) : ((St.of l).pend.length : Int) ≤ (St.of l).seen := by
  rw [St.of_seen]
  unfold St.of
  repeat' split
  all_goals simp only [List.length_drop, List.length_nil]
  all_goals omega
theorem St.go_shift {k : Int} (hk : 0 ≤ k) (m l : List UInt8) : ((St.of m).shift k).go l = (St.of (m ++ l)).shift k := by
  induction l generalizing m with
  | nil => rw [List.append_nil]; rfl
  | cons x l ih =>
    rw [St.go_cons, St.step_shift hk (St.of_pend_le m), St.step_of, ih, List.append_assoc]; rfl
theorem St.ok_shift {s : St} (h : s.ok) (hb : s.bad < 0) : s = (St.of s.pend).shift (s.seen - s.pend.length) := by
  have hbad : s.bad = -1 := by have := h.bad0; omega
  obtain ⟨seen, bad, pend⟩ := s
  simp only at *
  subst hbad
  rcases h.pend with hp | ⟨ho, _⟩
  · simp only at hp
    subst hp
    show (⟨seen, -1, []⟩ : St) = ⟨0 + (seen - 0), -1, []⟩
    congr 1; omega
  · simp only at ho
    have h3 := opn_one ho
    have hl := opn_len ho
    have h4 := faultAt_bad (l := pend) (p := 0) (by omega) (by simpa using h3)
    have h5 : fault pend = 0 := by unfold fault; rw [h4]; rfl
    have : St.of pend = ⟨pend.length, -1, pend⟩ := by
      unfold St.of
      rw [if_pos (by omega), h5]
      show (if opn (pend.drop 0) then _ else _) = _
      rw [List.drop_zero, if_pos ho]
      rfl
    rw [this]
    show (⟨seen, -1, pend⟩ : St) = ⟨(pend.length : Int) + (seen - pend.length), -1, pend⟩
    congr 1; omega
theorem St.next_go {s : St} (h : s.ok) (hb : s.bad < 0) (l : List UInt8) : s.go l = (St.of (s.pend ++ l)).shift (s.seen - s.pend.length) := by
  have hk : 0 ≤ s.seen - s.pend.length := by
    rcases h.pend with hp | ⟨_, hp, _⟩
    · rw [hp]; have := h.seen0; simp; omega
    · omega
  conv => lhs; rw [St.ok_shift h hb]
  exact St.go_shift hk _ _
theorem St.go_bad' {s : St} (h : s.ok) (hb : 0 ≤ s.bad) (l : List UInt8) : s.go l = ⟨s.seen + l.length, s.bad, []⟩ := by
  have h1 := St.go_bad hb l
  have h2 := St.go_seen s l
  have h3 : s.pend = [] := by
    rcases h.pend with hp | ⟨_, _, hp⟩
    · exact hp
    · omega
  rw [h3] at h1
  generalize s.go l = t at *
  obtain ⟨a, b, c⟩ := t
  simp only at *
  rw [h1.1, h1.2, h2]
theorem St.go_ok {s : St} (h : s.ok) (l : List UInt8) (hs : s.seen + l.length ≤ 1099511627776) : (s.go l).ok := by
  by_cases hb : 0 ≤ s.bad
  · rw [St.go_bad' h hb]
    have h0 := h.seen0
    have h1 := h.bad0
    have h2 := h.bad1
    exact ⟨by simp only; omega, hs, h1, by simp only; omega, .inl rfl⟩
  · rw [St.next_go h (by omega)]
    have hk : 0 ≤ s.seen - s.pend.length := by
      rcases h.pend with hp | ⟨_, hp, _⟩
      · rw [hp]; have := h.seen0; simp; omega
      · omega
    have h1 := St.of_bad_lt (s.pend ++ l)
    have h2 := St.of_seen (s.pend ++ l)
    have h3 := St.of_pend_le (s.pend ++ l)
    have h4 : (St.of (s.pend ++ l)).pend = [] ∨ (opn (St.of (s.pend ++ l)).pend ∧ (St.of (s.pend ++ l)).bad = -1) := by
      unfold St.of
      split
      · split
        · rename_i ho; exact .inr ⟨ho, rfl⟩
        · exact .inl rfl
      · exact .inl rfl
    rw [List.length_append] at h1 h2
    unfold St.shift
    refine ⟨by simp only; omega, by simp only; omega, ?_, ?_, ?_⟩
    · simp only; split <;> omega
    · simp only; split <;> omega
    · simp only
      rcases h4 with h4 | ⟨h4, h5⟩
      · exact .inl h4
      · exact .inr ⟨h4, by omega, by rw [if_neg (by omega)]; exact h5⟩
theorem St.ok_pend {s : St} (h : s.ok) : s.pend.length ≤ 3 := by
  rcases h.pend with hp | ⟨ho, _⟩
  · rw [hp]; exact Nat.zero_le _
  · exact (opn_len ho).2
theorem St.new_ok : St.new.ok := ⟨by decide, by decide, by decide, .inr rfl, .inl rfl⟩

end Go.Proofs.Ytdkegfookbgicaa.U
