/- Pairs and what is composed again: each is the other. -/
import Derived.Test.YtlneepmpieikeaaUcd
namespace Go.Proofs.Ytlneepmpieikeaa
open Go.RowKit

theorem row_of_key {j x : Nat} (hj : j < 2061) (h : key decL 16 j = x) : rowOf x = j + 1 := by
  have hr : rank decL 16 x 2061 = j + 1 := by
    refine last_uniq (rank_last dec_rising x) ⟨hj, fun _ => by rw [Nat.add_sub_cancel]; exact Nat.le_of_eq h, fun i h1 h2 => ?_⟩
    have := key_lt dec_rising (show j < i by omega) h2
    unfold decL at h
    omega
  unfold rowOf
  rw [hr, Nat.add_sub_cancel, if_neg (by rintro (h1 | h1); · omega
                                         · exact h1 h)]
theorem row_key {c k : Nat} (h : rowOf c = k + 1) : k < 2061 ∧ key decL 16 k = c := by
  have hle := rowOf_le c
  refine ⟨by omega, ?_⟩
  unfold rowOf at h
  split at h
  · omega
  · rename_i hn
    rw [h, Nat.add_sub_cancel] at hn
    exact Decidable.byContradiction fun hk => hn (.inr hk)
theorem row_dec {c k : Nat} (h : rowOf c = k + 1) : decA c = fld decL 16 k 5 5 ∧ decB c = fld decL 16 k 10 5 ∧ cmpOf c = decide (decL[k * 16 + 15]? = some 99) := by
  unfold decA decB cmpOf
  rw [h, Nat.add_sub_cancel, if_neg (Nat.succ_ne_zero k), if_neg (Nat.succ_ne_zero k)]
  simp

theorem pair_back {a b x : Nat} (h : PairP parL a b x true) : rowOf x ≠ 0 ∧ decA x = a ∧ decB x = b ∧ cmpOf x = true ∧ secOf b = true := by
  rcases h with ⟨_, i, hi, h1, h2, h3⟩ | ⟨h, _⟩
  · have hc := pairs_chk
    obtain ⟨L, e1, e2⟩ := rowsK_eq isC (fun l => trip (f5 0 l) (f5 5 l) (f5 10 l)) 16 2061 decS.data.toList (fun D => treeK 10 D fun t _ => allRows (fun l => force (trip (f5 10 l) (f5 0 l) (f5 5 l)) (fun x => t.find x)) 15 941 parS.data.toList)
    rw [e1] at hc
    obtain ⟨t, L', g1, g2, _⟩ := treeK_eq 10 L (fun t _ => allRows (fun l => force (trip (f5 10 l) (f5 0 l) (f5 5 l)) (fun x => t.find x)) 15 941 parS.data.toList)
    rw [g1] at hc
    have hf := allRows_at _ _ _ _ i hc hi
    rw [force_eq] at hf
    obtain ⟨j, hj, hjc, hje⟩ := (e2 _).1 (g2 _ (Tr.find_has _ _ hf))
    simp only [f5_fld] at hje
    obtain ⟨q1, q2, q3⟩ := trip_inj (fld5_lt ..) (fld5_lt ..) (fld5_lt ..) (fld5_lt ..) hje
    have hjc2 := (isC_iff _ _).1 hjc
    rw [key_fld] at h1
    have hk : key decL 16 j = x := by rw [key_fld, ← h3]; exact q1
    have hr := row_of_key hj hk
    obtain ⟨d1, d2, d3⟩ := row_dec hr
    refine ⟨by omega, ?_, ?_, ?_, ?_⟩
    · rw [d1, ← h1]; exact q2
    · rw [d2, ← h2]; exact q3
    · rw [d3, decide_eq_true_eq]; exact hjc2
    · unfold secOf
      rw [(isSec_iff b).2 ⟨i, hi, h2⟩, Bool.or_true]
  · exact Bool.noConfusion h
theorem comp_back {c : Nat} (h : cmpOf c = true) : rowOf c ≠ 0 ∧ PairP parL (decA c) (decB c) c true ∧ decB c ≠ 0 := by
  have hr : rowOf c ≠ 0 := by
    unfold cmpOf at h
    rw [Bool.and_eq_true, decide_eq_true_eq] at h
    exact h.1
  obtain ⟨k, hk⟩ : ∃ k, rowOf c = k + 1 := ⟨rowOf c - 1, by omega⟩
  obtain ⟨hk1, hk2⟩ := row_key hk
  obtain ⟨d1, d2, d3⟩ := row_dec hk
  rw [h] at d3
  have hC : isC (decS.data.toList.drop (k * 16)) = true := (isC_iff _ _).2 (of_decide_eq_true d3.symm)
  have hc := comps_chk
  obtain ⟨L, e1, e2⟩ := rowsK_eq (fun _ => true) (fun l => trip (f5 0 l) (f5 5 l) (f5 10 l)) 15 941 parS.data.toList (fun D => treeK 10 D fun t _ => allRows (fun l => bif isC l then bif Nat.beq (f5 10 l) 0 then false else force (trip (f5 5 l) (f5 10 l) (f5 0 l)) (fun x => t.find x) else true) 16 2061 decS.data.toList)
  rw [e1] at hc
  obtain ⟨t, L', g1, g2, _⟩ := treeK_eq 10 L (fun t _ => allRows (fun l => bif isC l then bif Nat.beq (f5 10 l) 0 then false else force (trip (f5 5 l) (f5 10 l) (f5 0 l)) (fun x => t.find x) else true) 16 2061 decS.data.toList)
  rw [g1] at hc
  have hf := allRows_at _ _ _ _ k hc hk1
  rw [hC, cond_true] at hf
  cases hz : Nat.beq (f5 10 (decS.data.toList.drop (k * 16))) 0 with
  | true => rw [hz] at hf; exact Bool.noConfusion hf
  | false =>
    rw [hz, cond_false, force_eq] at hf
    rw [f5_fld] at hz
    have hz2 : fld decL 16 k 10 5 ≠ 0 := Nat.ne_of_beq_eq_false hz
    obtain ⟨i, hi, _, hie⟩ := (e2 _).1 (g2 _ (Tr.find_has _ _ hf))
    simp only [f5_fld] at hie
    obtain ⟨q1, q2, q3⟩ := trip_inj (fld5_lt ..) (fld5_lt ..) (fld5_lt ..) (fld5_lt ..) hie
    refine ⟨hr, .inl ⟨rfl, i, hi, ?_, ?_, ?_⟩, by rw [d2]; exact hz2⟩
    · rw [d1, key_fld]; exact q1
    · rw [d2]; exact q2
    · rw [← hk2, key_fld]; exact q3

end Go.Proofs.Ytlneepmpieikeaa
