/- What is decomposed comes to an end; what is composed again does not combine. -/
import Derived.Test.YthdhlcafomhdbaaDoorUcm
namespace Go.Proofs.YthdhlcafomhdbaaDoor
open Go.RowKit

theorem row_iff (c : Nat) : rowOf c ≠ 0 ↔ ∃ i, i < 2061 ∧ f5 0 (decS.data.toList.drop (i * 16)) = c := by
  constructor
  · intro h
    obtain ⟨k, hk⟩ : ∃ k, rowOf c = k + 1 := ⟨rowOf c - 1, by omega⟩
    obtain ⟨h1, h2⟩ := row_key hk
    exact ⟨k, h1, by rw [f5_fld, ← key_fld]; exact h2⟩
  · rintro ⟨i, hi, h⟩
    rw [f5_fld, ← key_fld] at h
    have := row_of_key hi h
    omega
theorem row_at {c : Nat} (h : rowOf c ≠ 0) : ∃ i, i < 2061 ∧ f5 0 (decS.data.toList.drop (i * 16)) = c ∧ f5 5 (decS.data.toList.drop (i * 16)) = decA c ∧ f5 10 (decS.data.toList.drop (i * 16)) = decB c ∧ isC (decS.data.toList.drop (i * 16)) = cmpOf c := by
  obtain ⟨k, hk⟩ : ∃ k, rowOf c = k + 1 := ⟨rowOf c - 1, by omega⟩
  obtain ⟨h1, h2⟩ := row_key hk
  obtain ⟨d1, d2, d3⟩ := row_dec hk
  refine ⟨k, h1, by rw [f5_fld, ← key_fld]; exact h2, by rw [f5_fld]; exact d1.symm, by rw [f5_fld]; exact d2.symm, ?_⟩
  rw [d3, Bool.eq_iff_iff, isC_iff, decide_eq_true_eq]
  exact Iff.rfl

/-- The first one of what is decomposed is decomposed, and its first one, and no more; the second one is not. -/
theorem deep {c : Nat} (h : rowOf c ≠ 0) : rowOf (decB c) = 0 ∧ (rowOf (decA c) ≠ 0 → rowOf (decA (decA c)) ≠ 0 → rowOf (decA (decA (decA c))) = 0) := by
  have hc := deep_chk
  obtain ⟨K, e1, e2⟩ := maskK_eq ofKey 16 (fun K =>
    maskK (fun l => bif bit K (f5 5 l) then ofKey l else 0) 16 2061 decS.data.toList 0 (fun M =>
      maskK (fun l => bif bit M (f5 5 l) then ofKey l else 0) 16 2061 decS.data.toList 0 (fun N =>
        allRows (fun l => bif bit N (f5 5 l) then false else bif bit K (f5 10 l) then false else true) 16 2061 decS.data.toList))) 2061 decS.data.toList 0
  rw [e1] at hc
  obtain ⟨M, g1, g2⟩ := maskK_eq (fun l => bif bit K (f5 5 l) then ofKey l else 0) 16 (fun M =>
      maskK (fun l => bif bit M (f5 5 l) then ofKey l else 0) 16 2061 decS.data.toList 0 (fun N =>
        allRows (fun l => bif bit N (f5 5 l) then false else bif bit K (f5 10 l) then false else true) 16 2061 decS.data.toList)) 2061 decS.data.toList 0
  rw [g1] at hc
  obtain ⟨N, i1, i2⟩ := maskK_eq (fun l => bif bit M (f5 5 l) then ofKey l else 0) 16 (fun N =>
        allRows (fun l => bif bit N (f5 5 l) then false else bif bit K (f5 10 l) then false else true) 16 2061 decS.data.toList) 2061 decS.data.toList 0
  rw [i1] at hc
  have hK : ∀ x, rowOf x ≠ 0 → bit K x = true := fun x hx => by
    obtain ⟨i, hi, hx1, _⟩ := row_at hx
    exact (e2 x).2 (.inr ⟨i, hi, (bit_one _ _).2 hx1⟩)
  have hM : ∀ x, rowOf x ≠ 0 → rowOf (decA x) ≠ 0 → bit M x = true := fun x hx hy => by
    obtain ⟨i, hi, hx1, hx2, _⟩ := row_at hx
    refine (g2 x).2 (.inr ⟨i, hi, ?_⟩)
    simp only [hx2, hK _ hy, cond_true]
    exact (bit_one _ _).2 hx1
  have hN : ∀ x, rowOf x ≠ 0 → rowOf (decA x) ≠ 0 → rowOf (decA (decA x)) ≠ 0 → bit N x = true := fun x hx hy hz => by
    obtain ⟨i, hi, hx1, hx2, _⟩ := row_at hx
    refine (i2 x).2 (.inr ⟨i, hi, ?_⟩)
    simp only [hx2, hM _ hy hz, cond_true]
    exact (bit_one _ _).2 hx1
  obtain ⟨i, hi, hx1, hx2, hx3, _⟩ := row_at h
  have hf := allRows_at _ _ _ _ i hc hi
  rw [hx2, hx3] at hf
  cases hn : bit N (decA c) with
  | true => rw [hn] at hf; exact Bool.noConfusion hf
  | false =>
    rw [hn, cond_false] at hf
    refine ⟨?_, fun h1 h2 => ?_⟩
    · refine Decidable.byContradiction fun hb => ?_
      rw [hK _ hb] at hf
      exact Bool.noConfusion hf
    · refine Decidable.byContradiction fun hb => ?_
      rw [hN _ h1 h2 hb] at hn
      exact Bool.noConfusion hn

end Go.Proofs.YthdhlcafomhdbaaDoor
