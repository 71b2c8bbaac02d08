/- slices.SortStableFunc: two runs are merged, the general case. -/
import Derived.Test.YthkbjbbffkgpfaaSsc
import Derived.Test.YthkbjbbffkgpfaaSse
import Derived.Test.YthkbjbbffkgpfaaSsf
namespace Go.Proofs.Ythkbjbbffkgpfaa
open Go.RowKit Go.Proofs.Ythkbjbbffkgpfaa.Stb
variable {W : World} {g N D : Nat} {P S : List Nat} {c : FuncId} {cb : Value} {cls : Nat → Nat} {r : Nat → Nat → Int}

theorem sym_split {A1 A2 B1 B2 : List Nat} (ha : srt cls (A1 ++ A2)) (hb : srt cls (B1 ++ B2))
    (h1 : A1 = [] ∨ B2 = [] ∨ ∃ A' u v B', A1 = A' ++ [u] ∧ B2 = v :: B' ∧ cls u ≤ cls v)
    (h2 : A2 = [] ∨ B1 = [] ∨ ∃ u A' B' v, A2 = u :: A' ∧ B1 = B' ++ [v] ∧ cls v < cls u) :
    (∀ x ∈ A1, ∀ y ∈ B2, cls x ≤ cls y) ∧ ∀ x ∈ A2, ∀ y ∈ B1, cls y < cls x := by
  have ha := srt_app.1 ha
  have hb := srt_app.1 hb
  constructor
  · rcases h1 with rfl | rfl | ⟨A', u, v, B', rfl, rfl, h⟩
    · intro x hx; cases hx
    · intro x _ y hy; cases hy
    · exact ends_le ha.1 hb.2.1 h
  · rcases h2 with rfl | rfl | ⟨u, A', B', v, rfl, rfl, h⟩
    · intro x hx; cases hx
    · intro x _ y hy; cases hy
    · exact ends_lt hb.1 ha.2.1 h

theorem Pat.at_ {w : World} {X L Z : List Nat} (h : Pat W g N D P S (X ++ (L ++ Z)) w) {t i : Nat} (ht : t < L.length) (hi : i = P.length + X.length + t) : w.cell? ⟨g, i, none⟩ = some (.int .i64 ((L.getD t 0 : Nat) : Int)) := by
  have e : L.getD t 0 = L[t] := by simp [ht]
  have e2 : L = L.take t ++ L[t] :: L.drop (t + 1) := by rw [← List.drop_eq_getElem_cons ht, List.take_append_drop]
  have e3 : X ++ (L ++ Z) = (X ++ L.take t) ++ L[t] :: (L.drop (t + 1) ++ Z) := by
    have : X ++ (L ++ Z) = X ++ ((L.take t ++ L[t] :: L.drop (t + 1)) ++ Z) := by rw [← e2]
    rw [this]
    simp only [List.append_assoc, List.cons_append]
  rw [e3] at h
  rw [e]
  exact (h.cell (by simp; omega)).1

theorem Pat.at_lt {w : World} {X L Z : List Nat} (h : Pat W g N D P S (X ++ (L ++ Z)) w) {t : Nat} (ht : t < L.length) : L.getD t 0 < N := by
  have e : L.getD t 0 = L[t] := by simp [ht]
  rw [e]
  exact h.is (List.mem_append_right _ (List.mem_append_left _ (List.getElem_mem ht)))

/-- What the search finds. -/
theorem sym_found {A B : List Nat} {a m b mid n lo hi s : Nat} (hm : m = a + A.length) (hb : b = m + B.length) (hmid : mid = (a + b) / 2) (hn : n = mid + m)
    (hc : (mid < m ∧ lo + b = n ∧ hi = mid) ∨ (m ≤ mid ∧ lo = a ∧ hi = m)) (h1 : lo ≤ s) (h2 : s ≤ hi)
    (hl : ∀ k, lo ≤ k → k < s → cls ((A ++ B).getD (k - a) 0) ≤ cls ((A ++ B).getD (n - 1 - k - a) 0)) (hg : ∀ k, s ≤ k → k < hi → cls ((A ++ B).getD (n - 1 - k - a) 0) < cls ((A ++ B).getD (k - a) 0))
    (ha : srt cls A) (hB : srt cls B) :
    ∃ A1 A2 B1 B2, A = A1 ++ A2 ∧ B = B1 ++ B2 ∧ s = a + A1.length ∧ n - s = m + B1.length ∧ (∀ x ∈ A1, ∀ y ∈ B2, cls x ≤ cls y) ∧ ∀ x ∈ A2, ∀ y ∈ B1, cls y < cls x := by
  have hs1 : a ≤ s := by omega
  have hs2 : s ≤ m := by omega
  have hs3 : m ≤ n - s := by omega
  have hs4 : n - s ≤ b := by omega
  have eA : A = A.take (s - a) ++ A.drop (s - a) := (List.take_append_drop _ _).symm
  have eB : B = B.take (n - s - m) ++ B.drop (n - s - m) := (List.take_append_drop _ _).symm
  have getA : ∀ k (h : k - a < A.length), (A ++ B).getD (k - a) 0 = A[k - a] := fun k h => by
    rw [List.getD_eq_getElem?_getD, List.getElem?_append_left h, List.getElem?_eq_getElem h]; rfl
  have getB : ∀ k (h0 : m ≤ k) (h : k - m < B.length), (A ++ B).getD (k - a) 0 = B[k - m] := fun k h0 h => by
    rw [List.getD_eq_getElem?_getD, List.getElem?_append_right (by omega), show k - a - A.length = k - m by omega, List.getElem?_eq_getElem h]; rfl
  refine ⟨_, _, _, _, eA, eB, by rw [List.length_take]; omega, by rw [List.length_take]; omega, ?_⟩
  refine sym_split (by rw [← eA]; exact ha) (by rw [← eB]; exact hB) ?_ ?_
  · by_cases hls : lo < s
    · by_cases hb2 : n - s < b
      · have k1 := hl (s - 1) (by omega) (by omega)
        have j1 : s - 1 - a < A.length := by omega
        have j2 : n - s - m < B.length := by omega
        rw [getA _ j1, show n - 1 - (s - 1) - a = n - s - a by omega, getB _ hs3 j2] at k1
        refine .inr (.inr ⟨A.take (s - 1 - a), _, _, B.drop (n - s - m + 1), ?_, List.drop_eq_getElem_cons j2, k1⟩)
        rw [show s - a = s - 1 - a + 1 by omega, List.take_succ_eq_append_getElem j1]
      · exact .inr (.inl (List.drop_of_length_le (by omega)))
    · rcases hc with ⟨_, h, _⟩ | ⟨_, h, _⟩
      · exact .inr (.inl (List.drop_of_length_le (by omega)))
      · exact .inl (by rw [show s - a = 0 by omega, List.take_zero])
  · by_cases hsh : s < hi
    · by_cases hm2 : s < m
      · by_cases he : m < n - s
        · have k1 := hg s (Nat.le_refl _) hsh
          have j1 : s - a < A.length := by omega
          have j2 : n - 1 - s - m < B.length := by omega
          rw [getA _ j1, getB (n - 1 - s) (by omega) j2] at k1
          refine .inr (.inr ⟨_, A.drop (s - a + 1), B.take (n - 1 - s - m), _, List.drop_eq_getElem_cons j1, ?_, k1⟩)
          rw [show n - s - m = n - 1 - s - m + 1 by omega, List.take_succ_eq_append_getElem j2]
        · exact .inr (.inl (by rw [show n - s - m = 0 by omega, List.take_zero]))
      · exact .inl (List.drop_of_length_le (by omega))
    · rcases hc with ⟨_, _, h⟩ | ⟨_, _, h⟩
      · exact .inr (.inl (by rw [show n - s - m = 0 by omega, List.take_zero]))
      · exact .inl (List.drop_of_length_le (by omega))

end Go.Proofs.Ythkbjbbffkgpfaa
