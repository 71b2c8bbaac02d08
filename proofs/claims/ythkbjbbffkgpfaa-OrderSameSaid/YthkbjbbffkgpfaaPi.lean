/- A region that draws its order, walked once in an order of our own: what only computes or reads what was there is taken as soon as it may come up; what makes memory is met when nothing else may come up. -/
import Derived.OrdersHeld
import Derived.Deep.Draws
import Derived.Below
namespace Go.Proofs.Ythkbjbbffkgpfaa
open Go.RowKit

/-- From w to w' memory was only made: nothing that was there has turned. -/
def Up (w w' : World) : Prop := Below w.heap.size w w'
theorem Up.refl (w : World) : Up w w := Below.refl _ _
theorem Up.trans {a b c : World} (h : Up a b) (k : Up b c) : Up a c := Below.trans h (k.mono h.size)
theorem Up.drew {a b : World} (h : Up a b) : Up a b.drew := Below.drew h
theorem Up.drewN {a b : World} (h : Up a b) (n : Nat) : Up a (b.drewN n) := ⟨h.os, h.tape, h.output, h.size, h.block⟩
theorem Up.alloc {a b : World} (h : Up a b) (o : Obj) : Up a (b.alloc o) := Below.alloc h h.size o
theorem Up.of_drew {a b : World} (h : Up a.drew b) : Up a b := ⟨h.os, h.tape, h.output, h.size, h.block⟩
theorem Up.of_drewN {a b : World} {n : Nat} (h : Up (a.drewN n) b) : Up a b := ⟨h.os, h.tape, h.output, h.size, h.block⟩

section
variable {P : Program} {ops : Array Oper} {Q : Exit → Act → World → Prop}

theorem held_mono {md : Region.Mode} {S S' : World → Prop} (hS : ∀ w, S' w → S w) : ∀ (fuel : Nat) (listed : Array Bool) (a : Act) (w : World),
    wpAnyH P md ops Q S' fuel listed a w → wpAnyH P md ops Q S fuel listed a w
  | 0, _, _, _, h => h
  | fuel + 1, _, _, _, h => ⟨h.1, fun i hi => wpOp_mono (fun _ _ h' => ⟨hS _ h'.1, held_mono hS fuel _ _ _ h'.2⟩) (h.2 i hi)⟩

/-- May the operations be walked in this order? (true: it makes memory: nothing else may come up then.) -/
def okPi (ops : Array Oper) : List (Nat × Bool) → Array Bool → Bool
  | [], listed => (Region.ready .any ops listed).isEmpty
  | (i, b) :: π, listed => (if b then decide (Region.ready .any ops listed = [i]) else (Region.ready .any ops listed).contains i && Region.free .any ops listed i) && okPi ops π (listed.setIfInBounds i true)

/-- The walk in this order. -/
def wpPi (P : Program) (ops : Array Oper) (Q : Exit → Act → World → Prop) : List (Nat × Bool) → Act → World → Prop
  | [], a, w => Q .normal a w
  | (i, b) :: π, a, w => ∃ o, ops[i]? = some o ∧
      if Region.wanted o (yielded ops a.tmps) = true then
        (b = false ∧ ∃ v, (∀ w', Up w w' → (execOp a.eval o).run P w' = .ok (.value v) w') ∧ wpPi P ops Q π (a.put o.dst v) w) ∨
        (b = true ∧ Oper.wp P o a w (fun a' w1 => Up w w1 ∧ wpPi P ops Q π a' w1) Q)
      else wpPi P ops Q π (a.put o.dst undef) w

theorem pi_sound (hs : Region.noSelect ops = true) (hQ : ∀ c a d v w, Q (.panic c) (Act.put a d v) w → Q (.panic c) a w) : ∀ (π : List (Nat × Bool)) (listed : Array Bool) (a : Act) (w : World),
    okPi ops π listed = true → wpPi P ops Q π a w → wpAnyH P .any ops Q (Up w) π.length listed a w
  | [], listed, a, w, hB, h => by
    have : Region.ready .any ops listed = [] := by simpa [okPi] using hB
    exact ⟨this, h⟩
  | (i, b) :: π, listed, a, w, hB, h => by
    obtain ⟨o, ho, h⟩ := h
    unfold okPi at hB
    rw [Bool.and_eq_true] at hB
    obtain ⟨hB1, hB2⟩ := hB
    by_cases hw : Region.wanted o (yielded ops a.tmps) = true
    · rw [if_pos hw] at h
      rcases h with ⟨rfl, v, hv, h⟩ | ⟨rfl, h⟩
      · rw [if_neg (by decide), Bool.and_eq_true] at hB1
        exact wpAnyH_take ho hs hB1.2 hB1.1 (fun c a w h => hQ c a _ _ w h) (.inl ⟨hw, hv⟩) (Up.refl w) (pi_sound hs hQ π _ _ _ hB2 h)
      · rw [if_pos rfl] at hB1
        have hr := of_decide_eq_true hB1
        refine wpAnyH_all hr (by simp) fun j hj => ?_
        obtain rfl : j = i := by simpa using hj
        unfold wpOp
        simp only [ho]
        rw [if_pos hw]
        exact .inl (Oper.wp_mono (fun a' w1 h1 => ⟨h1.1, held_mono (fun _ h2 => h1.1.trans h2) _ _ _ _ (pi_sound hs hQ π _ _ _ hB2 h1.2)⟩) h)
    · rw [if_neg hw] at h
      have hw' : Region.wanted o (yielded ops a.tmps) = false := by simpa using hw
      cases b with
      | false =>
        rw [if_neg (by decide), Bool.and_eq_true] at hB1
        exact wpAnyH_take ho hs hB1.2 hB1.1 (fun c a w h => hQ c a _ _ w h) (.inr ⟨hw', rfl⟩) (Up.refl w) (pi_sound hs hQ π _ _ _ hB2 h)
      | true =>
        rw [if_pos rfl] at hB1
        have hr := of_decide_eq_true hB1
        refine wpAnyH_all hr (by simp) fun j hj => ?_
        obtain rfl : j = i := by simpa using hj
        unfold wpOp
        simp only [ho, hw']
        exact ⟨Up.refl w, pi_sound hs hQ π _ _ _ hB2 h⟩

/-- THE BEGINNING. -/
theorem wp_region_pi (π : List (Nat × Bool)) {id : Nat} {a : Act} {w : World} (hm : P.follows .mixedOrders = true)
    (hB : (Region.noSelect ops && decide (ops.size = π.length) && okPi ops π (Array.replicate ops.size false)) = true)
    (hQ : ∀ c a d v w, Q (.panic c) (Act.put a d v) w → Q (.panic c) a w) (h : wpPi P ops Q π a w.drew) : (Code.region id ops true).wp P Q a w := by
  simp only [Bool.and_eq_true, decide_eq_true_eq] at hB
  refine wp_region_held (S := Up w.drew) hm ?_
  have := pi_sound hB.1.1 hQ π _ a w.drew hB.2 h
  rw [← hB.1.2] at this
  exact this

/-- The operation at a place, so that it comes out written out. -/
def opAt (i : Nat) (l : List Oper) : Option Oper := match i, l with
  | _, [] => none
  | 0, o :: _ => some o
  | n + 1, _ :: r => opAt n r
theorem opAt_eq : ∀ (i : Nat) (l : List Oper), opAt i l = l[i]?
  | 0, [] => rfl
  | _ + 1, [] => rfl
  | 0, _ :: _ => rfl
  | n + 1, _ :: r => by rw [opAt, opAt_eq n r]; rfl
theorem opAt_get {i : Nat} {o : Oper} (h : opAt i ops.toList = some o) : ops[i]? = some o := by
  rw [opAt_eq, Array.getElem?_toList] at h; exact h

/-- What computes, or reads what was there. -/
theorem pi_take {i : Nat} {π : List (Nat × Bool)} {a : Act} {w : World} {o : Oper} {v : Value} (ho : opAt i ops.toList = some o) (hw : Region.wanted o (yielded ops a.tmps) = true)
    (hv : ∀ w', Up w w' → (execOp a.eval o).run P w' = .ok (.value v) w') (h : wpPi P ops Q π (a.put o.dst v) w) : wpPi P ops Q ((i, false) :: π) a w :=
  ⟨o, opAt_get ho, by rw [if_pos hw]; exact .inl ⟨rfl, v, hv, h⟩⟩
/-- What a guard shuts out. -/
theorem pi_skip {i : Nat} {b : Bool} {π : List (Nat × Bool)} {a : Act} {w : World} {o : Oper} (ho : opAt i ops.toList = some o) (hw : Region.wanted o (yielded ops a.tmps) = false)
    (h : wpPi P ops Q π (a.put o.dst undef) w) : wpPi P ops Q ((i, b) :: π) a w :=
  ⟨o, opAt_get ho, by rw [if_neg (by rw [hw]; decide)]; exact h⟩
/-- What makes memory. -/
theorem pi_make {i : Nat} {π : List (Nat × Bool)} {a : Act} {w : World} {o : Oper} (ho : opAt i ops.toList = some o) (hw : Region.wanted o (yielded ops a.tmps) = true)
    (h : ∀ K : Act → World → Prop, Hid (∀ a' w1, Up w w1 → wpPi P ops Q π a' w1 → K a' w1) → Oper.wp P o a w K Q) : wpPi P ops Q ((i, true) :: π) a w :=
  ⟨o, opAt_get ho, by rw [if_pos hw]; exact .inr ⟨rfl, h _ fun _ _ h1 h2 => ⟨h1, h2⟩⟩⟩
theorem pi_done {a : Act} {w : World} (h : Q .normal a w) : wpPi P ops Q [] a w := h

end
attribute [irreducible] wpPi
end Go.Proofs.Ythkbjbbffkgpfaa
