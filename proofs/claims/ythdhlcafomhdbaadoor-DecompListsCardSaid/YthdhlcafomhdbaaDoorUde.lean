/- Decomposed again and again: the plain lists. -/
import Derived.Test.YthdhlcafomhdbaaDoorUcn
namespace Go.Proofs.YthdhlcafomhdbaaDoor
open Go.RowKit

noncomputable def stepL (x : Nat) : List Nat := if decOk x = true then (if decB x = 0 then [decA x] else [decA x, decB x]) else [x]
noncomputable def flat (l : List Nat) : List Nat := l.flatMap stepL
/-- In so many steps a character comes to one that is not decomposed. -/
def Ends : Nat → Nat → Prop
  | 0, x => rowOf x = 0
  | n + 1, x => rowOf x ≠ 0 → Ends n (decA x)
theorem ends_of {x : Nat} (h : rowOf x = 0) : ∀ n, Ends n x
  | 0 => h
  | _ + 1 => fun h' => absurd h h'
theorem ends_three (c : Nat) : Ends 3 c := fun h => fun h1 => fun h2 => (deep h).2 h1 h2
/-- Behind i rounds: one that is still decomposed may stand first, none behind it. -/
def Inv (i : Nat) (l : List Nat) : Prop := ∃ x r, l = x :: r ∧ Ends (3 - i) x ∧ (∀ y, y ∈ r → rowOf y = 0) ∧ r.length ≤ i
theorem stepL_id {x : Nat} (h : rowOf x = 0) : stepL x = [x] := by
  unfold stepL decOk
  rw [h, if_neg (by decide)]
theorem flat_id : ∀ r : List Nat, (∀ y, y ∈ r → rowOf y = 0) → flat r = r
  | [], _ => rfl
  | y :: r, h => by
    have h1 := stepL_id (h y (List.mem_cons_self ..))
    have h2 := flat_id r (fun z hz => h z (List.mem_cons_of_mem _ hz))
    unfold flat at *
    rw [List.flatMap_cons, h1, h2]; rfl
theorem inv_start (c : Nat) : Inv 0 [c] := ⟨c, [], rfl, ends_three c, fun y h => absurd h (by simp), by simp⟩
theorem inv_step {i : Nat} {l : List Nat} (hi : i < 3) (h : Inv i l) : Inv (i + 1) (flat l) := by
  obtain ⟨x, r, rfl, h1, h2, h3⟩ := h
  have hr := flat_id r h2
  have hf : flat (x :: r) = stepL x ++ r := by
    unfold flat at *
    rw [List.flatMap_cons, hr]
  rw [hf]
  by_cases hx : rowOf x = 0
  · rw [stepL_id hx]
    clear hf hr h1
    exact ⟨x, r, List.singleton_append .., ends_of hx _, h2, by omega⟩
  · have hE : Ends (3 - (i + 1)) (decA x) := by
      obtain ⟨k, hk⟩ : ∃ k, 3 - i = k + 1 := ⟨3 - i - 1, by omega⟩
      rw [hk] at h1
      have := h1 hx
      rwa [show 3 - (i + 1) = k by omega]
    have hok : decOk x = true := by unfold decOk; exact decide_eq_true hx
    unfold stepL
    rw [if_pos hok]
    split
    · exact ⟨decA x, r, List.singleton_append .., hE, h2, by omega⟩
    · refine ⟨decA x, decB x :: r, List.cons_append .. |>.trans (congrArg _ (List.singleton_append ..)), hE, fun y hy => ?_, by rw [List.length_cons]; omega⟩
      rcases List.mem_cons.1 hy with hy | hy
      · rw [hy]; exact (deep hx).1
      · exact h2 y hy
theorem inv_end {l : List Nat} (h : Inv 3 l) : (∀ y, y ∈ l → rowOf y = 0) ∧ 1 ≤ l.length ∧ l.length ≤ 4 := by
  obtain ⟨x, r, rfl, h1, h2, h3⟩ := h
  refine ⟨fun y hy => ?_, by simp, by rw [List.length_cons]; omega⟩
  rcases List.mem_cons.1 hy with rfl | hy
  · exact h1
  · exact h2 y hy
/-- One more of the list. -/
theorem flat_snoc {l : List Nat} {k : Nat} (hk : k < l.length) : flat (l.take (k + 1)) = flat (l.take k) ++ stepL l[k] := by
  unfold flat
  rw [List.take_succ_eq_append_getElem hk, List.flatMap_append]
  simp
theorem flat_len (l : List Nat) : (flat l).length ≤ 2 * l.length := by
  induction l with
  | nil => simp [flat]
  | cons x r ih =>
    unfold flat at *
    rw [List.flatMap_cons, List.length_append, List.length_cons]
    have : (stepL x).length ≤ 2 := by unfold stepL; repeat' split
                                      all_goals simp
    omega
theorem inv_len {i : Nat} {l : List Nat} (h : Inv i l) : 1 ≤ l.length ∧ l.length ≤ i + 1 := by
  obtain ⟨x, r, rfl, _, _, h3⟩ := h
  rw [List.length_cons]; omega

end Go.Proofs.YthdhlcafomhdbaaDoor
