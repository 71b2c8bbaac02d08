/- What is decomposed comes to an end; what is composed again does not combine. -/
import Derived.Test.YthkbjbbffkgpfaaUcm
namespace Go.Proofs.Ythkbjbbffkgpfaa
open Go.RowKit

theorem cls_zero {c : Nat} (h : ∀ i, i < 388 → ¬ (f5 0 (clsS.data.toList.drop (i * 12)) ≤ c ∧ c ≤ f5 5 (clsS.data.toList.drop (i * 12)))) : clsOf c = 0 := by
  have hr := rank_last cls_rising c
  unfold clsOf
  obtain ⟨r, hk⟩ : ∃ r, rank clsL 12 c 388 = r := ⟨_, rfl⟩
  unfold clsL at *
  rw [hk] at hr ⊢
  obtain ⟨h1, h2, _⟩ := hr
  by_cases h0 : r = 0
  · rw [if_pos h0]
  · rw [if_neg h0]
    have h3 := h2 (by omega)
    have h4 := h (r - 1) (by omega)
    rw [f5_fld, f5_fld, ← key_fld] at h4
    rw [if_pos (by omega)]
end Go.Proofs.Ythkbjbbffkgpfaa
