/- A region that draws its order, walked once in an order of our own (as XPi has it), where not only memory is made: what is kept is a relation R. -/
import Derived.Test.YthgjjlllifcegaaFr
namespace Go.Proofs.Ythgjjlllifcegaa
open Go.RowKit

/-- What is kept through the region: goes on from world to world. -/
structure Kept (R : World → World → Prop) : Prop where
  refl : ∀ w, R w w
  trans : ∀ a b c, R a b → R b c → R a c
theorem kept_fr (g k : Nat) : Kept (Fr g k) := ⟨Fr.refl g k, fun _ _ _ h h2 => h.trans h2 (.inl rfl) (.inr (.inl rfl))⟩

section
variable {R : World → World → Prop} {P : Program} {ops : Array Oper} {Q : Exit → Act → World → Prop}

/-- The walk in this order. -/
def wpPiR (R : World → World → Prop) (P : Program) (ops : Array Oper) (Q : Exit → Act → World → Prop) : List (Nat × Bool) → Act → World → Prop
  | [], a, w => Q .normal a w
  | (i, b) :: π, a, w => ∃ o, ops[i]? = some o ∧
      if Region.wanted o (yielded ops a.tmps) = true then
        (b = false ∧ ∃ v, (∀ w', R w w' → (execOp a.eval o).run P w' = .ok (.value v) w') ∧ wpPiR R P ops Q π (a.put o.dst v) w) ∨
        (b = true ∧ Oper.wp P o a w (fun a' w1 => R w w1 ∧ wpPiR R P ops Q π a' w1) Q)
      else wpPiR R P ops Q π (a.put o.dst undef) w

theorem pir_sound (hR : Kept R) (hs : Region.noSelect ops = true) (hQ : ∀ c a d v w, Q (.panic c) (Act.put a d v) w → Q (.panic c) a w) : ∀ (π : List (Nat × Bool)) (listed : Array Bool) (a : Act) (w : World),
    okPi ops π listed = true → wpPiR R P ops Q π a w → wpAnyH P .any ops Q (R w) π.length listed a w
  | [], listed, a, w, hB, h => by
    have : Region.ready .any ops listed = [] := by simpa [okPi] using hB
    exact ⟨this, h⟩
  | (i, b) :: π, listed, a, w, hB, h => by
    obtain ⟨o, ho, h⟩ := h
    unfold okPi at hB
    rw [Bool.and_eq_true] at hB
    obtain ⟨hB1, hB2⟩ := hB
    by_cases hw : Region.wanted o (yielded ops a.tmps) = true
    · rw [if_pos hw] at h
      rcases h with ⟨rfl, v, hv, h⟩ | ⟨rfl, h⟩
      · rw [if_neg (by decide), Bool.and_eq_true] at hB1
        exact wpAnyH_take ho hs hB1.2 hB1.1 (fun c a w h => hQ c a _ _ w h) (.inl ⟨hw, hv⟩) (hR.refl w) (pir_sound hR hs hQ π _ _ _ hB2 h)
      · rw [if_pos rfl] at hB1
        have hr := of_decide_eq_true hB1
        refine wpAnyH_all hr (by simp) fun j hj => ?_
        obtain rfl : j = i := by simpa using hj
        unfold wpOp
        simp only [ho]
        rw [if_pos hw]
        exact .inl (Oper.wp_mono (fun a' w1 h1 => ⟨h1.1, held_mono (fun _ h2 => hR.trans _ _ _ h1.1 h2) _ _ _ _ (pir_sound hR hs hQ π _ _ _ hB2 h1.2)⟩) h)
    · rw [if_neg hw] at h
      have hw' : Region.wanted o (yielded ops a.tmps) = false := by simpa using hw
      cases b with
      | false =>
        rw [if_neg (by decide), Bool.and_eq_true] at hB1
        exact wpAnyH_take ho hs hB1.2 hB1.1 (fun c a w h => hQ c a _ _ w h) (.inr ⟨hw', rfl⟩) (hR.refl w) (pir_sound hR hs hQ π _ _ _ hB2 h)
      | true =>
        rw [if_pos rfl] at hB1
        have hr := of_decide_eq_true hB1
        refine wpAnyH_all hr (by simp) fun j hj => ?_
        obtain rfl : j = i := by simpa using hj
        unfold wpOp
        simp only [ho, hw']
        exact ⟨hR.refl w, pir_sound hR hs hQ π _ _ _ hB2 h⟩

/-- THE BEGINNING. -/
theorem wp_region_pir (π : List (Nat × Bool)) {id : Nat} {a : Act} {w : World} (hR : Kept R) (hm : P.follows .mixedOrders = true)
    (hB : (Region.noSelect ops && decide (ops.size = π.length) && okPi ops π (Array.replicate ops.size false)) = true)
    (hQ : ∀ c a d v w, Q (.panic c) (Act.put a d v) w → Q (.panic c) a w) (h : wpPiR R P ops Q π a w.drew) : (Code.region id ops true).wp P Q a w := by
  simp only [Bool.and_eq_true, decide_eq_true_eq] at hB
  refine wp_region_held (S := R w.drew) hm ?_
  have := pir_sound hR hB.1.1 hQ π _ a w.drew hB.2 h
  rw [← hB.1.2] at this
  exact this

/-- What computes, or reads what was there. -/
theorem pir_take {i : Nat} {π : List (Nat × Bool)} {a : Act} {w : World} {o : Oper} {v : Value} (ho : opAt i ops.toList = some o) (hw : Region.wanted o (yielded ops a.tmps) = true)
    (hv : ∀ w', R w w' → (execOp a.eval o).run P w' = .ok (.value v) w') (h : wpPiR R P ops Q π (a.put o.dst v) w) : wpPiR R P ops Q ((i, false) :: π) a w :=
  ⟨o, opAt_get ho, by rw [if_pos hw]; exact .inl ⟨rfl, v, hv, h⟩⟩
/-- What a guard shuts out. -/
theorem pir_skip {i : Nat} {b : Bool} {π : List (Nat × Bool)} {a : Act} {w : World} {o : Oper} (ho : opAt i ops.toList = some o) (hw : Region.wanted o (yielded ops a.tmps) = false)
    (h : wpPiR R P ops Q π (a.put o.dst undef) w) : wpPiR R P ops Q ((i, b) :: π) a w :=
  ⟨o, opAt_get ho, by rw [if_neg (by rw [hw]; decide)]; exact h⟩
/-- What makes memory. -/
theorem pir_make {i : Nat} {π : List (Nat × Bool)} {a : Act} {w : World} {o : Oper} (ho : opAt i ops.toList = some o) (hw : Region.wanted o (yielded ops a.tmps) = true)
    (h : ∀ K : Act → World → Prop, Hid (∀ a' w1, R w w1 → wpPiR R P ops Q π a' w1 → K a' w1) → Oper.wp P o a w K Q) : wpPiR R P ops Q ((i, true) :: π) a w :=
  ⟨o, opAt_get ho, by rw [if_pos hw]; exact .inr ⟨rfl, h _ fun _ _ h1 h2 => ⟨h1, h2⟩⟩⟩
theorem pir_done {a : Act} {w : World} (h : Q .normal a w) : wpPiR R P ops Q [] a w := h

end
attribute [irreducible] wpPiR
end Go.Proofs.Ythgjjlllifcegaa
