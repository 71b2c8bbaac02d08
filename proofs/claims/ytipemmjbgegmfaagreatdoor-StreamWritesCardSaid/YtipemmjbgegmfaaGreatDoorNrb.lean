/- Nrb: one text of Pif Nor. -/
import Derived.Test.YtipemmjbgegmfaaGreatDoorBas
import Derived.Test.YtipemmjbgegmfaaGreatDoorNra

/- A region that draws its order, where two operations that make memory may come up at once, and what comes up behind them comes up alone: both orders are walked, each to its end. What is taken ahead of them yields in whatever world. -/
namespace Go.Proofs.YtipemmjbgegmfaaGreatDoor
open Go.RowKit

section
variable {P : Program} {ops : Array Oper} {Q : Exit → Act → World → Prop}

/-- May these come up alone, one behind the other, to the end? -/
def okSq (ops : Array Oper) : List Nat → Array Bool → Bool
  | [], listed => (Region.ready .any ops listed).isEmpty
  | k :: π, listed => decide (Region.ready .any ops listed = [k]) && okSq ops π (listed.setIfInBounds k true)
/-- The walk so. -/
def wpSq (P : Program) (ops : Array Oper) (Q : Exit → Act → World → Prop) : List Nat → Act → World → Prop
  | [], a, w => Q .normal a w
  | k :: π, a, w => ∃ o, ops[k]? = some o ∧ Region.wanted o (yielded ops a.tmps) = true ∧ Oper.wp P o a w (wpSq P ops Q π) Q

theorem sq_sound : ∀ (π : List Nat) (listed : Array Bool) (a : Act) (w : World), okSq ops π listed = true → wpSq P ops Q π a w → wpAnyH P .any ops Q (fun _ => True) π.length listed a w
  | [], listed, a, w, hB, h => by
    have : Region.ready .any ops listed = [] := by simpa [okSq] using hB
    exact ⟨this, h⟩
  | k :: π, listed, a, w, hB, h => by
    unfold okSq at hB
    simp only [Bool.and_eq_true, decide_eq_true_eq] at hB
    obtain ⟨o, ho, hw, h⟩ := h
    refine wpAnyH_all hB.1 (by simp) fun j hj => ?_
    obtain rfl : j = k := by simpa using hj
    unfold wpOp
    simp only [ho]
    rw [if_pos hw]
    exact .inl (Oper.wp_mono (fun a' w1 h1 => ⟨trivial, sq_sound π _ _ _ hB.2 h1⟩) h)

/-- May the operations be walked so: first these, each as soon as it may come up; then i or j, each with a rest of its own? -/
def okFk (ops : Array Oper) (i j : Nat) (π1 π2 : List Nat) : List Nat → Array Bool → Bool
  | [], listed => decide (Region.ready .any ops listed = [i, j]) && okSq ops π1 (listed.setIfInBounds i true) && okSq ops π2 (listed.setIfInBounds j true)
  | k :: π, listed => (Region.ready .any ops listed).contains k && Region.free .any ops listed k && okFk ops i j π1 π2 π (listed.setIfInBounds k true)

/-- The walk so. -/
def wpFk (P : Program) (ops : Array Oper) (Q : Exit → Act → World → Prop) (i j : Nat) (π1 π2 : List Nat) : List Nat → Act → World → Prop
  | [], a, w => (∃ o, ops[i]? = some o ∧ Region.wanted o (yielded ops a.tmps) = true ∧ Oper.wp P o a w (wpSq P ops Q π1) Q) ∧
      ∃ o, ops[j]? = some o ∧ Region.wanted o (yielded ops a.tmps) = true ∧ Oper.wp P o a w (wpSq P ops Q π2) Q
  | k :: π, a, w => ∃ o, ops[k]? = some o ∧ Region.wanted o (yielded ops a.tmps) = true ∧ ∃ v, (∀ w', (execOp a.eval o).run P w' = .ok (.value v) w') ∧ wpFk P ops Q i j π1 π2 π (a.put o.dst v) w

theorem fk_sound {i j : Nat} {π1 π2 : List Nat} (hl : π1.length = π2.length) (hs : Region.noSelect ops = true) (hQ : ∀ c a d v w, Q (.panic c) (Act.put a d v) w → Q (.panic c) a w) : ∀ (π : List Nat) (listed : Array Bool) (a : Act) (w : World),
    okFk ops i j π1 π2 π listed = true → wpFk P ops Q i j π1 π2 π a w → wpAnyH P .any ops Q (fun _ => True) (π.length + π1.length + 1) listed a w
  | [], listed, a, w, hB, h => by
    unfold okFk at hB
    simp only [Bool.and_eq_true, decide_eq_true_eq] at hB
    obtain ⟨⟨hr, hB1⟩, hB2⟩ := hB
    obtain ⟨⟨o, ho, hw, h⟩, o2, ho2, hw2, h2⟩ := h
    rw [List.length_nil, Nat.zero_add]
    refine wpAnyH_all hr (by simp) fun k hk => ?_
    rcases (by simpa using hk : k = i ∨ k = j) with rfl | rfl
    · unfold wpOp
      simp only [ho]
      rw [if_pos hw]
      exact .inl (Oper.wp_mono (fun a' w1 h1 => ⟨trivial, sq_sound π1 _ _ _ hB1 h1⟩) h)
    · unfold wpOp
      simp only [ho2]
      rw [if_pos hw2, hl]
      exact .inl (Oper.wp_mono (fun a' w1 h1 => ⟨trivial, sq_sound π2 _ _ _ hB2 h1⟩) h2)
  | k :: π, listed, a, w, hB, h => by
    unfold okFk at hB
    simp only [Bool.and_eq_true] at hB
    obtain ⟨o, ho, hw, v, hv, h⟩ := h
    rw [show (k :: π).length + π1.length + 1 = (π.length + π1.length + 1) + 1 by simp only [List.length_cons]; omega]
    exact wpAnyH_take ho hs hB.1.2 hB.1.1 (fun c a w h => hQ c a _ _ w h) (.inl ⟨hw, fun w' _ => hv w'⟩) trivial (fk_sound hl hs hQ π _ _ _ hB.2 h)

/-- THE BEGINNING. -/
theorem wp_region_fk (i j : Nat) (π π1 π2 : List Nat) {id : Nat} {a : Act} {w : World} (hm : P.follows .mixedOrders = true)
    (hB : (Region.noSelect ops && decide (ops.size = π.length + π1.length + 1) && decide (π1.length = π2.length) && okFk ops i j π1 π2 π (Array.replicate ops.size false)) = true)
    (hQ : ∀ c a d v w, Q (.panic c) (Act.put a d v) w → Q (.panic c) a w) (h : wpFk P ops Q i j π1 π2 π a w.drew) : (Code.region id ops true).wp P Q a w := by
  simp only [Bool.and_eq_true, decide_eq_true_eq] at hB
  refine wp_region_held (S := fun _ => True) hm ?_
  have := fk_sound hB.1.2 hB.1.1.1 hQ π _ a w.drew hB.2 h
  rw [← hB.1.1.2] at this
  exact this

/-- What yields in whatever world. -/
theorem fk_take {i j k : Nat} {π π1 π2 : List Nat} {a : Act} {w : World} {o : Oper} {v : Value} (ho : opAt k ops.toList = some o) (hw : Region.wanted o (yielded ops a.tmps) = true)
    (hv : ∀ w', (execOp a.eval o).run P w' = .ok (.value v) w') (h : wpFk P ops Q i j π1 π2 π (a.put o.dst v) w) : wpFk P ops Q i j π1 π2 (k :: π) a w :=
  ⟨o, opAt_get ho, hw, v, hv, h⟩
/-- The fork. -/
theorem fk_fork {i j : Nat} {π1 π2 : List Nat} {a : Act} {w : World} {o o2 : Oper} (ho : opAt i ops.toList = some o) (ho2 : opAt j ops.toList = some o2)
    (hw : Region.wanted o (yielded ops a.tmps) = true) (hw2 : Region.wanted o2 (yielded ops a.tmps) = true)
    (h1 : ∀ K : Act → World → Prop, Hid (∀ a' w1, wpSq P ops Q π1 a' w1 → K a' w1) → Oper.wp P o a w K Q)
    (h2 : ∀ K : Act → World → Prop, Hid (∀ a' w1, wpSq P ops Q π2 a' w1 → K a' w1) → Oper.wp P o2 a w K Q) : wpFk P ops Q i j π1 π2 [] a w :=
  ⟨⟨o, opAt_get ho, hw, h1 _ fun _ _ h => h⟩, o2, opAt_get ho2, hw2, h2 _ fun _ _ h => h⟩
/-- One that comes up alone. -/
theorem sq_make {k : Nat} {π : List Nat} {a : Act} {w : World} {o : Oper} (ho : opAt k ops.toList = some o) (hw : Region.wanted o (yielded ops a.tmps) = true)
    (h : ∀ K : Act → World → Prop, Hid (∀ a' w1, wpSq P ops Q π a' w1 → K a' w1) → Oper.wp P o a w K Q) : wpSq P ops Q (k :: π) a w :=
  ⟨o, opAt_get ho, hw, h _ fun _ _ h => h⟩
theorem sq_done {a : Act} {w : World} (h : Q .normal a w) : wpSq P ops Q [] a w := h

end
attribute [irreducible] wpFk wpSq
end Go.Proofs.YtipemmjbgegmfaaGreatDoor

/- The statements of stage 8: parts. -/
namespace Go.Proofs.YtipemmjbgegmfaaGreatDoor
open Go.RowKit Go.Proofs.YtipemmjbgegmfaaGreatDoor.Ordr Go.Proofs.YtipemmjbgegmfaaGreatDoor.Cmpr

theorem safeOf_le (l : List Nat) : safeOf l ≤ l.length := by
  have := safeF_le l (l.length - 1)
  unfold safeOf; omega
theorem nfcL_nil : nfcL [] = [] := List.eq_nil_of_length_eq_zero (by have := nfcL_len []; simpa using this)
theorem parts8 (l : List Nat) : nfcL (l.take (safeOf l)) ++ nfcL (l.drop (safeOf l)) = nfcL l := by
  by_cases hz : safeOf l = 0
  · rw [hz, List.take_zero, List.drop_zero, nfcL_nil, List.nil_append]
  · have hlt : safeOf l < l.length := by
      have := safeF_le l (l.length - 1)
      have h2 : safeOf l ≤ l.length - 1 := this
      by_cases h0 : l.length = 0
      · omega
      · omega
    have hs : startOf (l[safeOf l]?.getD 0) = true := safeF_start l (l.length - 1) (by unfold safeOf at hz; omega)
    rw [List.getElem?_eq_getElem hlt] at hs
    have hd : l.drop (safeOf l) = l[safeOf l] :: l.drop (safeOf l + 1) := List.drop_eq_getElem_cons hlt
    have e : l = l.take (safeOf l) ++ l[safeOf l] :: l.drop (safeOf l + 1) := by rw [← hd, List.take_append_drop]
    have := Nrmr.nfc_parts clsOf twoO good (l.take (safeOf l)) (l[safeOf l]) (l.drop (safeOf l + 1)) (start_full hs)
    rw [← e] at this
    rw [hd]
    exact this.symm

theorem uUs : Tryz.prog.underlying 60 = some (.slice (Tryz.prog.elem 60)) := by kernel_rfl
theorem szU (w : World) : (sizeOf (Tryz.prog.elem 60)).run Tryz.prog w = .ok 1 w := by kernel_rfl
/-- 'l[k:]' of numbers. -/
theorem Rd.tailU {w : World} {A : Option Addr} {c : Nat} {l : List Nat} (h : Rd w A c (us l)) (n k : Nat) (hn : n = l.length) (hk : k ≤ n) :
    ∃ A', (∀ w', (Instr.slice 60 (.slice A n c) (some (.int .i64 k)) none none).run Tryz.prog w' = .ok (.slice A' (n - k) (c - k)) w') ∧ Rd w A' (c - k) (us (l.drop k)) := by
  have hf := h.fit
  rw [us_len] at hf
  refine ⟨if c = k then A else A.map (·.add (k * 1)), fun w' => ?_, ?_⟩
  · rw [run_slice_l w' 60 A n c uUs .i64 k (by omega) (by omega), szU]
    simp [sliced]
  · have := h.sub (lo := k) (hi := n) (m := c) hk (by rw [us_len]; omega) (by omega) (by omega)
    rw [us_drop, us_take, List.take_of_length_le (by rw [List.length_drop]; omega)] at this
    simpa using this
/-- 'l[:k]' of numbers. -/
theorem Rd.headU {w : World} {A : Option Addr} {c : Nat} {l : List Nat} (h : Rd w A c (us l)) (n k : Nat) (hn : n = l.length) (hk : k ≤ n) :
    ∃ A', (∀ w', (Instr.slice 60 (.slice A n c) none (some (.int .i64 k)) none).run Tryz.prog w' = .ok (.slice A' k c) w') ∧ Rd w A' c (us (l.take k)) := by
  have hf := h.fit
  rw [us_len] at hf
  refine ⟨if c = 0 then A else A.map (·.add (0 * 1)), fun w' => ?_, ?_⟩
  · rw [run_slice_h w' 60 A n c uUs .i64 k (by omega) (by omega), szU]
    simp [sliced]
  · have := h.sub (lo := 0) (hi := k) (m := c) (by omega) (by rw [us_len]; omega) (by omega) (by omega)
    rw [List.drop_zero, us_take] at this
    simpa using this

end Go.Proofs.YtipemmjbgegmfaaGreatDoor
