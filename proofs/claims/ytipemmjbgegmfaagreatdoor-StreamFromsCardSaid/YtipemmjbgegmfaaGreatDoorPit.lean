/- A region that draws its order, walked in a tree of orders: where two makers may come up at once each is walked first in turn; R is kept (as XPir has it). -/
import Derived.Test.YtipemmjbgegmfaaGreatDoorSca
namespace Go.Proofs.YtipemmjbgegmfaaGreatDoor
open Go.RowKit

/-- An order, or two of them. -/
inductive Ot where
  | nil
  | take (i : Nat) (t : Ot)
  | make (i : Nat) (t : Ot)
  | fork (i : Nat) (t : Ot) (j : Nat) (u : Ot)
def Ot.len : Ot → Nat
  | .nil => 0
  | .take _ t => t.len + 1
  | .make _ t => t.len + 1
  | .fork _ t _ _ => t.len + 1

section
variable {R : World → World → Prop} {P : Program} {ops : Array Oper} {Q : Exit → Act → World → Prop}

def okOt (ops : Array Oper) : Ot → Array Bool → Bool
  | .nil, listed => (Region.ready .any ops listed).isEmpty
  | .take i t, listed => (Region.ready .any ops listed).contains i && Region.free .any ops listed i && okOt ops t (listed.setIfInBounds i true)
  | .make i t, listed => decide (Region.ready .any ops listed = [i]) && okOt ops t (listed.setIfInBounds i true)
  | .fork i t j u, listed => decide (Region.ready .any ops listed = [i, j]) && okOt ops t (listed.setIfInBounds i true) && okOt ops u (listed.setIfInBounds j true) && decide (t.len = u.len)

/-- The walk. -/
def wpOt (R : World → World → Prop) (P : Program) (ops : Array Oper) (Q : Exit → Act → World → Prop) : Ot → Act → World → Prop
  | .nil, a, w => Q .normal a w
  | .take i t, a, w => ∃ o, ops[i]? = some o ∧
      if Region.wanted o (yielded ops a.tmps) = true then ∃ v, (∀ w', R w w' → (execOp a.eval o).run P w' = .ok (.value v) w') ∧ wpOt R P ops Q t (a.put o.dst v) w
      else wpOt R P ops Q t (a.put o.dst undef) w
  | .make i t, a, w => ∃ o, ops[i]? = some o ∧ Region.wanted o (yielded ops a.tmps) = true ∧ Oper.wp P o a w (fun a' w1 => R w w1 ∧ wpOt R P ops Q t a' w1) Q
  | .fork i t j u, a, w => (∃ o, ops[i]? = some o ∧ Region.wanted o (yielded ops a.tmps) = true ∧ Oper.wp P o a w (fun a' w1 => R w w1 ∧ wpOt R P ops Q t a' w1) Q) ∧
      ∃ o, ops[j]? = some o ∧ Region.wanted o (yielded ops a.tmps) = true ∧ Oper.wp P o a w (fun a' w1 => R w w1 ∧ wpOt R P ops Q u a' w1) Q

theorem ot_sound (hR : Kept R) (hs : Region.noSelect ops = true) (hQ : ∀ c a d v w, Q (.panic c) (Act.put a d v) w → Q (.panic c) a w) : ∀ (T : Ot) (listed : Array Bool) (a : Act) (w : World),
    okOt ops T listed = true → wpOt R P ops Q T a w → wpAnyH P .any ops Q (R w) T.len listed a w
  | .nil, listed, a, w, hB, h => by
    have : Region.ready .any ops listed = [] := by simpa [okOt] using hB
    exact ⟨this, h⟩
  | .take i t, listed, a, w, hB, h => by
    obtain ⟨o, ho, h⟩ := h
    unfold okOt at hB
    simp only [Bool.and_eq_true] at hB
    by_cases hw : Region.wanted o (yielded ops a.tmps) = true
    · rw [if_pos hw] at h
      obtain ⟨v, hv, h⟩ := h
      exact wpAnyH_take ho hs hB.1.2 hB.1.1 (fun c a w h => hQ c a _ _ w h) (.inl ⟨hw, hv⟩) (hR.refl w) (ot_sound hR hs hQ t _ _ _ hB.2 h)
    · rw [if_neg hw] at h
      have hw' : Region.wanted o (yielded ops a.tmps) = false := by simpa using hw
      exact wpAnyH_take ho hs hB.1.2 hB.1.1 (fun c a w h => hQ c a _ _ w h) (.inr ⟨hw', rfl⟩) (hR.refl w) (ot_sound hR hs hQ t _ _ _ hB.2 h)
  | .make i t, listed, a, w, hB, h => by
    obtain ⟨o, ho, hw, h⟩ := h
    unfold okOt at hB
    simp only [Bool.and_eq_true, decide_eq_true_eq] at hB
    refine wpAnyH_all hB.1 (by simp) fun j hj => ?_
    obtain rfl : j = i := by simpa using hj
    unfold wpOp
    simp only [ho]
    rw [if_pos hw]
    exact .inl (Oper.wp_mono (fun a' w1 h1 => ⟨h1.1, held_mono (fun _ h2 => hR.trans _ _ _ h1.1 h2) _ _ _ _ (ot_sound hR hs hQ t _ _ _ hB.2 h1.2)⟩) h)
  | .fork i t j u, listed, a, w, hB, h => by
    unfold okOt at hB
    simp only [Bool.and_eq_true, decide_eq_true_eq] at hB
    obtain ⟨⟨⟨hr, hB1⟩, hB2⟩, hl⟩ := hB
    obtain ⟨⟨o, ho, hw, h⟩, o2, ho2, hw2, h2⟩ := h
    refine wpAnyH_all hr (by simp) fun k hk => ?_
    rcases (by simpa using hk : k = i ∨ k = j) with rfl | rfl
    · unfold wpOp
      simp only [ho]
      rw [if_pos hw]
      exact .inl (Oper.wp_mono (fun a' w1 h1 => ⟨h1.1, held_mono (fun _ h2 => hR.trans _ _ _ h1.1 h2) _ _ _ _ (ot_sound hR hs hQ t _ _ _ hB1 h1.2)⟩) h)
    · unfold wpOp
      simp only [ho2]
      rw [if_pos hw2]
      rw [hl]
      exact .inl (Oper.wp_mono (fun a' w1 h1 => ⟨h1.1, held_mono (fun _ h2 => hR.trans _ _ _ h1.1 h2) _ _ _ _ (ot_sound hR hs hQ u _ _ _ hB2 h1.2)⟩) h2)

/-- THE BEGINNING. -/
theorem wp_region_ot (T : Ot) {id : Nat} {a : Act} {w : World} (hR : Kept R) (hm : P.follows .mixedOrders = true)
    (hB : (Region.noSelect ops && decide (ops.size = T.len) && okOt ops T (Array.replicate ops.size false)) = true)
    (hQ : ∀ c a d v w, Q (.panic c) (Act.put a d v) w → Q (.panic c) a w) (h : wpOt R P ops Q T a w.drew) : (Code.region id ops true).wp P Q a w := by
  simp only [Bool.and_eq_true, decide_eq_true_eq] at hB
  refine wp_region_held (S := R w.drew) hm ?_
  have := ot_sound hR hB.1.1 hQ T _ a w.drew hB.2 h
  rw [← hB.1.2] at this
  exact this

/-- What computes, or reads what was there. -/
theorem ot_take {i : Nat} {T : Ot} {a : Act} {w : World} {o : Oper} {v : Value} (ho : opAt i ops.toList = some o) (hw : Region.wanted o (yielded ops a.tmps) = true)
    (hv : ∀ w', R w w' → (execOp a.eval o).run P w' = .ok (.value v) w') (h : wpOt R P ops Q T (a.put o.dst v) w) : wpOt R P ops Q (.take i T) a w :=
  ⟨o, opAt_get ho, by rw [if_pos hw]; exact ⟨v, hv, h⟩⟩
/-- What a guard shuts out. -/
theorem ot_skip {i : Nat} {T : Ot} {a : Act} {w : World} {o : Oper} (ho : opAt i ops.toList = some o) (hw : Region.wanted o (yielded ops a.tmps) = false)
    (h : wpOt R P ops Q T (a.put o.dst undef) w) : wpOt R P ops Q (.take i T) a w :=
  ⟨o, opAt_get ho, by rw [if_neg (by rw [hw]; decide)]; exact h⟩
/-- What makes memory, alone. -/
theorem ot_make {i : Nat} {T : Ot} {a : Act} {w : World} {o : Oper} (ho : opAt i ops.toList = some o) (hw : Region.wanted o (yielded ops a.tmps) = true)
    (h : ∀ K : Act → World → Prop, Hid (∀ a' w1, R w w1 → wpOt R P ops Q T a' w1 → K a' w1) → Oper.wp P o a w K Q) : wpOt R P ops Q (.make i T) a w :=
  ⟨o, opAt_get ho, hw, h _ fun _ _ h1 h2 => ⟨h1, h2⟩⟩
/-- Two that make memory may come up. -/
theorem ot_fork {i j : Nat} {T U : Ot} {a : Act} {w : World} {o o2 : Oper} (ho : opAt i ops.toList = some o) (ho2 : opAt j ops.toList = some o2)
    (hw : Region.wanted o (yielded ops a.tmps) = true) (hw2 : Region.wanted o2 (yielded ops a.tmps) = true)
    (h1 : ∀ K : Act → World → Prop, Hid (∀ a' w1, R w w1 → wpOt R P ops Q T a' w1 → K a' w1) → Oper.wp P o a w K Q)
    (h2 : ∀ K : Act → World → Prop, Hid (∀ a' w1, R w w1 → wpOt R P ops Q U a' w1 → K a' w1) → Oper.wp P o2 a w K Q) : wpOt R P ops Q (.fork i T j U) a w :=
  ⟨⟨o, opAt_get ho, hw, h1 _ fun _ _ h1 h2 => ⟨h1, h2⟩⟩, o2, opAt_get ho2, hw2, h2 _ fun _ _ h1 h2 => ⟨h1, h2⟩⟩
theorem ot_done {a : Act} {w : World} (h : Q .normal a w) : wpOt R P ops Q .nil a w := h

end
attribute [irreducible] wpOt
end Go.Proofs.YtipemmjbgegmfaaGreatDoor
