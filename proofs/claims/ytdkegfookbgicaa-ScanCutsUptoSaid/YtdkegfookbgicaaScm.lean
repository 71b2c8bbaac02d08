/- More of a scan's state, plain. No program is met here. -/
import Derived.Test.YtdkegfookbgicaaScn
namespace Go.Proofs.Ytdkegfookbgicaa.U

theorem St.step_bad {s : St} (h : 0 ≤ s.bad) (x : UInt8) : (s.step x).bad = s.bad ∧ (s.step x).pend = s.pend := by
  unfold St.step; rw [if_pos h]; exact ⟨rfl, rfl⟩
theorem St.go_bad {s : St} (h : 0 ≤ s.bad) (l : List UInt8) : (s.go l).bad = s.bad ∧ (s.go l).pend = s.pend := by
  induction l generalizing s with
  | nil => exact ⟨rfl, rfl⟩
  | cons x l ih =>
    have h1 := St.step_bad h x
    have h2 := ih (s := s.step x) (by omega)
    rw [St.go_cons, h2.1, h2.2]
    exact h1
theorem St.of_seen (l : List UInt8) : (St.of l).seen = l.length := by
  unfold St.of; repeat' split
  all_goals rfl
theorem St.of_fault {l : List UInt8} (h : 0 ≤ (St.of l).bad) : (St.of l).bad = fault l ∧ (St.of l).pend = [] := by
  revert h
  unfold St.of
  split
  · split
    · intro h; exact absurd h (show ¬ (0 : Int) ≤ -1 by decide)
    · intro _; exact ⟨rfl, rfl⟩
  · intro h; exact absurd h (show ¬ (0 : Int) ≤ -1 by decide)
theorem St.of_pend (l : List UInt8) : (St.of l).pend.length ≤ 3 := by rw [← St.new_go]; exact St.go_pend (by decide) l
theorem St.of_end (l : List UInt8) : (St.of l).end = fault l := by
  by_cases h0 : 0 ≤ fault l
  · obtain ⟨cs, _, hl, hf, _, hne⟩ := fault_cut h0
    by_cases ho : opn (l.drop (fault l).toNat)
    · rw [St.of_open hl hf.symm ho]
      unfold St.end
      rw [if_neg hne]
      have := congrArg List.length hl
      rw [List.length_append] at this
      simp only
      omega
    · rw [St.of_bad hl hf.symm ho]
      exact hf
  · have hr : fault l = -1 := by have := fault_ge l; omega
    rw [St.of_right hr, hr]; rfl
theorem St.of_bad_lt (l : List UInt8) : -1 ≤ (St.of l).bad ∧ ((St.of l).bad < l.length ∨ (St.of l).bad = -1) := by
  by_cases h : 0 ≤ (St.of l).bad
  · have h1 := (St.of_fault h).1
    rw [h1] at h
    obtain ⟨cs, _, hl, hf, _, hne⟩ := fault_cut h
    have := congrArg List.length hl
    rw [List.length_append] at this
    have := List.length_pos_iff.2 hne
    omega
  · revert h
    unfold St.of
    split
    · split
      · intro _; exact ⟨Int.le_refl _, .inr rfl⟩
      · rename_i h0 _; intro h; exact absurd h0 h
    · intro _; exact ⟨Int.le_refl _, .inr rfl⟩
/-- What is told of bytes may be gone on from. -/
theorem St.of_ok {l : List UInt8} (h : (l.length : Int) ≤ 1099511627776) : (St.of l).ok := by
  have h1 := St.of_bad_lt l
  refine ⟨by rw [St.of_seen]; omega, by rw [St.of_seen]; exact h, h1.1, by rw [St.of_seen]; exact h1.2, ?_⟩
  unfold St.of
  split
  · split
    · rename_i ho
      exact .inr ⟨ho, by simp only [List.length_drop]; omega, rfl⟩
    · exact .inl rfl
  · exact .inl rfl

end Go.Proofs.Ytdkegfookbgicaa.U
