/- Skx: one text of Pie Skb Skc Skd Ske. -/
import Derived.Test.YtipemmjbgegmfaaGreatDoorSca
import Derived.StillTailTactics
import Derived.Test.YtipemmjbgegmfaaGreatDoorSka
import Derived.Test.YtipemmjbgegmfaaGreatDoorStq
import Derived.Test.YtipemmjbgegmfaaGreatDoorNpr
import Derived.Test.YtipemmjbgegmfaaGreatDoorCdx
import Derived.Test.YtipemmjbgegmfaaGreatDoorScb
import Derived.Test.YtipemmjbgegmfaaGreatDoorSux

/- A region that draws its order and ends in one operation that waits for all the others (a store into what they read): walked in an order of our own; what is kept ahead of the last one is a relation R. -/
namespace Go.Proofs.YtipemmjbgegmfaaGreatDoor
open Go.RowKit

section
variable {R : World → World → Prop} {P : Program} {ops : Array Oper} {md : Region.Mode} {Q : Exit → Act → World → Prop} {S : World → Prop} {N : Nat}

/-- As wpAnyH; behind operation N nothing is asked of the world. -/
def wpAnyE (P : Program) (md : Region.Mode) (ops : Array Oper) (Q : Exit → Act → World → Prop) (S : World → Prop) (N : Nat) : Nat → Array Bool → Act → World → Prop
  | 0, listed, a, w => Region.ready md ops listed = [] ∧ Q .normal a w
  | fuel + 1, listed, a, w =>
    (Region.ready md ops listed = [] → Q .normal a w) ∧
    ∀ i ∈ Region.ready md ops listed, wpOp P ops Q i (fun a' w' => (S w' ∨ i = N) ∧ wpAnyE P md ops Q S N fuel (listed.setIfInBounds i true) a' w') a w
theorem wpAny_of_e : ∀ (fuel : Nat) (listed : Array Bool) (a : Act) (w : World), wpAnyE P md ops Q S N fuel listed a w → wpAny P md ops Q fuel listed a w
  | 0, _, _, _, h => h
  | fuel + 1, _, _, _, h => ⟨h.1, fun i hi => wpOp_mono (fun a' w' h' => wpAny_of_e fuel _ a' w' h'.2) (h.2 i hi)⟩
theorem e_mono {S' : World → Prop} (hS : ∀ w, S' w → S w) : ∀ (fuel : Nat) (listed : Array Bool) (a : Act) (w : World),
    wpAnyE P md ops Q S' N fuel listed a w → wpAnyE P md ops Q S N fuel listed a w
  | 0, _, _, _, h => h
  | fuel + 1, _, _, _, h => ⟨h.1, fun i hi => wpOp_mono (fun _ _ h' => ⟨h'.1.imp (hS _) id, e_mono hS fuel _ _ _ h'.2⟩) (h.2 i hi)⟩

theorem wpAnyE_first {i : Nat} {oi : Oper} {v : Value} (hi : ops[i]? = some oi) (hsel : ∀ (j : Nat) (o : Oper) cs b, ops[j]? = some o → o.op ≠ .select cs b)
    (hs : Region.sinkB md ops N = true) (hc : Region.chainB md ops N = true) (hN : N + 1 = ops.size) (hiN : i < N)
    (hQ : ∀ c a w, Q (.panic c) (a.put oi.dst v) w → Q (.panic c) a w) :
    ∀ (fuel : Nat) (listed : Array Bool) (a : Act) (w : World), HeadInv md ops N listed →
      (∀ j oj, ops[j]? = some oj → j ≠ i → listed.getD j true = false → (∀ e ∈ oj.after, Region.binds md e = true → e.on ≠ i) → oi.apart ops oj = true) →
      i ∈ Region.ready md ops listed → YieldsIf P ops S oi v a → S w →
      wpAnyE P md ops Q S N fuel (listed.setIfInBounds i true) (a.put oi.dst v) w → wpAnyE P md ops Q S N (fuel + 1) listed a w := by
  intro fuel
  induction fuel with
  | zero =>
    intro listed a w inv _ hr hy hS H
    refine ⟨fun h => (by rw [h] at hr; cases hr), fun j hj => ?_⟩
    by_cases hji : j = i
    · subst hji; exact hy.wpOp hi hS ⟨.inl hS, H⟩
    · have := ready_mono hj hji
      rw [H.1] at this
      cases this
  | succ fuel ih =>
    intro listed a w inv hfree hr hy hS H
    have hun := (mem_ready.1 hr).1
    refine ⟨fun h => (by rw [h] at hr; cases hr), fun j hj => ?_⟩
    by_cases hji : j = i
    · subst hji; exact hy.wpOp hi hS ⟨.inl hS, H⟩
    · have hjN : j < N := by
        rcases Nat.lt_or_ge j N with h | h
        · exact h
        · exact absurd hj (tail_waits hs hc (by omega) inv _ i rfl hiN hun j h)
      have h1 := H.2 j (ready_mono hj hji)
      obtain ⟨hjun, oj, hoj, hall⟩ := mem_ready.1 hj
      have hnot : ∀ e ∈ oj.after, Region.binds md e = true → e.on ≠ i := fun e he hb heq => by
        have h1 := hall e he hb
        rw [heq, getD_both hun] at h1
        cases h1
      have h2 := wpOp_putIf hoj (hfree j oj hoj hji hjun hnot) (fun cs b => hsel i oi cs b hi) (fun cs b => hsel j oj cs b hoj) hQ hy h1
      have hfree' : ∀ k ok, ops[k]? = some ok → k ≠ i → (listed.setIfInBounds j true).getD k true = false →
          (∀ e ∈ ok.after, Region.binds md e = true → e.on ≠ i) → oi.apart ops ok = true := fun k ok hk hki hun hno => by
        refine hfree k ok hk hki ?_ hno
        by_cases hjk : j = k
        · subst hjk; exact hjun
        · rw [getD_set_ne true hjk] at hun; exact hun
      refine wpOp_mono (fun a' w' h3 => ?_) h2
      have hS' : S w' := by
        rcases h3.2.1 with h4 | h4
        · exact h4
        · omega
      refine ⟨.inl hS', ih (listed.setIfInBounds j true) a' w' (inv.set hj hjN) hfree' (ready_mono hr (Ne.symm hji)) h3.1 hS' ?_⟩
      rw [Array.setIfInBounds_comm _ _ hji]
      exact h3.2.2

/-- May the operations be walked in this order, and then N? -/
def okPe (ops : Array Oper) (N : Nat) : List (Nat × Bool) → Array Bool → Bool
  | [], listed => decide (Region.ready .any ops listed = [N]) && (Region.ready .any ops (listed.setIfInBounds N true)).isEmpty
  | (i, b) :: π, listed => decide (i < N) && (if b then decide (Region.ready .any ops listed = [i]) else (Region.ready .any ops listed).contains i && Region.free .any ops listed i) && okPe ops N π (listed.setIfInBounds i true)
/-- The walk in this order, and then N. -/
def wpPe (R : World → World → Prop) (P : Program) (ops : Array Oper) (N : Nat) (Q : Exit → Act → World → Prop) : List (Nat × Bool) → Act → World → Prop
  | [], a, w => wpOp P ops Q N (Q .normal) a w
  | (i, b) :: π, a, w => ∃ o, ops[i]? = some o ∧ Region.wanted o (yielded ops a.tmps) = true ∧
        ((b = false ∧ ∃ v, (∀ w', R w w' → (execOp a.eval o).run P w' = .ok (.value v) w') ∧ wpPe R P ops N Q π (a.put o.dst v) w) ∨
        (b = true ∧ Oper.wp P o a w (fun a' w1 => R w w1 ∧ wpPe R P ops N Q π a' w1) Q))

theorem pe_sound (hR : Kept R) (hs : Region.noSelect ops = true) (hk : Region.sinkB .any ops N = true) (hc : Region.chainB .any ops N = true) (hN : N + 1 = ops.size)
    (hQ : ∀ c a d v w, Q (.panic c) (Act.put a d v) w → Q (.panic c) a w) : ∀ (π : List (Nat × Bool)) (listed : Array Bool) (a : Act) (w : World),
    HeadInv .any ops N listed → okPe ops N π listed = true → wpPe R P ops N Q π a w → wpAnyE P .any ops Q (R w) N (π.length + 1) listed a w
  | [], listed, a, w, inv, hB, h => by
    unfold okPe at hB
    rw [Bool.and_eq_true] at hB
    have hr := of_decide_eq_true hB.1
    have hr2 : Region.ready .any ops (listed.setIfInBounds N true) = [] := by simpa using hB.2
    refine ⟨fun h0 => (by rw [hr] at h0; cases h0), fun j hj => ?_⟩
    rw [hr] at hj
    obtain rfl : j = N := by simpa using hj
    exact wpOp_mono (fun a' w' h' => ⟨.inr rfl, (show wpAnyE P .any ops Q (R w) j 0 _ a' w' from ⟨hr2, h'⟩)⟩) h
  | (i, b) :: π, listed, a, w, inv, hB, h => by
    obtain ⟨o, ho, hw, h⟩ := h
    unfold okPe at hB
    rw [Bool.and_eq_true, Bool.and_eq_true] at hB
    obtain ⟨⟨hB0, hB1⟩, hB2⟩ := hB
    have hiN := of_decide_eq_true hB0
    rcases h with ⟨rfl, v, hv, h⟩ | ⟨rfl, h⟩
    · rw [if_neg (by decide), Bool.and_eq_true] at hB1
      have hri : i ∈ Region.ready .any ops listed := by simpa using hB1.1
      exact wpAnyE_first ho (Region.noSelect_spec hs) hk hc hN hiN (fun c a w h => hQ c a _ _ w h) _ _ _ _ inv (Region.free_spec ho hB1.2) hri (.inl ⟨hw, hv⟩) (hR.refl w)
        (pe_sound hR hs hk hc hN hQ π _ _ _ (inv.set hri hiN) hB2 h)
    · rw [if_pos rfl] at hB1
      have hr := of_decide_eq_true hB1
      refine ⟨fun h0 => (by rw [hr] at h0; cases h0), fun j hj => ?_⟩
      have hri := hj
      rw [hr] at hj
      obtain rfl : j = i := by simpa using hj
      unfold wpOp
      simp only [ho]
      rw [if_pos hw]
      exact .inl (Oper.wp_mono (fun a' w1 h1 => ⟨.inl h1.1, e_mono (fun _ h2 => hR.trans _ _ _ h1.1 h2) _ _ _ _ (pe_sound hR hs hk hc hN hQ π _ _ _ (inv.set hri hiN) hB2 h1.2)⟩) h)

/-- THE BEGINNING. -/
theorem wp_region_pe (π : List (Nat × Bool)) (N : Nat) {id : Nat} {a : Act} {w : World} (hR : Kept R) (hm : P.follows .mixedOrders = true)
    (hB : (Region.noSelect ops && decide (ops.size = π.length + 1) && decide (N + 1 = ops.size) && Region.sinkB .any ops N && Region.chainB .any ops N && okPe ops N π (Array.replicate ops.size false)) = true)
    (hQ : ∀ c a d v w, Q (.panic c) (Act.put a d v) w → Q (.panic c) a w) (h : wpPe R P ops N Q π a w.drew) : (Code.region id ops true).wp P Q a w := by
  simp only [Bool.and_eq_true, decide_eq_true_eq] at hB
  obtain ⟨⟨⟨⟨⟨h1, h2⟩, h3⟩, h4⟩, h5⟩, h6⟩ := hB
  have inv : HeadInv .any ops N (Array.replicate ops.size false) := by
    refine ⟨by simp, fun j oj _ hl => ?_, fun t _ ht => by simp [ht]⟩
    rw [getD_replicate_false] at hl
    cases hl
  have := pe_sound hR h1 h4 h5 h3 hQ π _ a w.drew inv h6 h
  rw [← h2] at this
  exact wp_region_any hm (wpAny_of_e _ _ _ _ this)

theorem pe_take {i : Nat} {π : List (Nat × Bool)} {a : Act} {w : World} {o : Oper} {v : Value} (ho : opAt i ops.toList = some o) (hw : Region.wanted o (yielded ops a.tmps) = true)
    (hv : ∀ w', R w w' → (execOp a.eval o).run P w' = .ok (.value v) w') (h : wpPe R P ops N Q π (a.put o.dst v) w) : wpPe R P ops N Q ((i, false) :: π) a w :=
  ⟨o, opAt_get ho, hw, .inl ⟨rfl, v, hv, h⟩⟩
theorem pe_make {i : Nat} {π : List (Nat × Bool)} {a : Act} {w : World} {o : Oper} (ho : opAt i ops.toList = some o) (hw : Region.wanted o (yielded ops a.tmps) = true)
    (h : ∀ K : Act → World → Prop, Hid (∀ a' w1, R w w1 → wpPe R P ops N Q π a' w1 → K a' w1) → Oper.wp P o a w K Q) : wpPe R P ops N Q ((i, true) :: π) a w :=
  ⟨o, opAt_get ho, hw, .inr ⟨rfl, h _ fun _ _ h1 h2 => ⟨h1, h2⟩⟩⟩
theorem pe_last {a : Act} {w : World} {o : Oper} (ho : opAt N ops.toList = some o) (hw : Region.wanted o (yielded ops a.tmps) = true) (h : Oper.wp P o a w (Q .normal) Q) : wpPe R P ops N Q [] a w := by
  unfold wpPe wpOp
  simp only [opAt_get ho]
  rw [if_pos hw]
  exact .inl h

end
attribute [irreducible] wpPe
end Go.Proofs.YtipemmjbgegmfaaGreatDoor

/- The program's stream: failed, all, right, width, safe. -/
namespace Go.Proofs.YtipemmjbgegmfaaGreatDoor
open Go.RowKit Go.Proofs.YtipemmjbgegmfaaGreatDoor.Ordr Go.Proofs.YtipemmjbgegmfaaGreatDoor.Cmpr

/-- A stream as it is held: seven cells. -/
def seven (i o si so er : Nat) (A : Option Addr) (n c p : Nat) : Obj := .cells #[.int .i64 (i : Int), .int .i64 (o : Int), .int .u32 (si : Int), .int .u32 (so : Int), .int .i64 (er : Int), .slice A n c, .int .i64 (p : Int)] 49 (0, 0)
theorem seven_cells {w : World} {g i o si so er : Nat} {A : Option Addr} {n c p : Nat} (h : w.heap[g]? = some (seven i o si so er A n c p)) :
    (∀ j, w.frozen? ⟨g, j, none⟩ = false) ∧ w.cell? ⟨g, 0, none⟩ = some (.int .i64 (i : Int)) ∧ w.cell? ⟨g, 1, none⟩ = some (.int .i64 (o : Int)) ∧ w.cell? ⟨g, 2, none⟩ = some (.int .u32 (si : Int)) ∧ w.cell? ⟨g, 3, none⟩ = some (.int .u32 (so : Int)) ∧ w.cell? ⟨g, 4, none⟩ = some (.int .i64 (er : Int)) ∧ w.cell? ⟨g, 5, none⟩ = some (.slice A n c) ∧ w.cell? ⟨g, 6, none⟩ = some (.int .i64 (p : Int)) := by
  unfold seven at h
  exact ⟨fun j => by simp [World.frozen?, h], cell_of_row w g 0 _ _ _ h, cell_of_row w g 1 _ _ _ h, cell_of_row w g 2 _ _ _ h, cell_of_row w g 3 _ _ _ h, cell_of_row w g 4 _ _ _ h, cell_of_row w g 5 _ _ _ h, cell_of_row w g 6 _ _ _ h⟩
theorem seven_set5 {w : World} {g i o si so er : Nat} {A : Option Addr} {n c p : Nat} (h : w.heap[g]? = some (seven i o si so er A n c p)) (B : Option Addr) (m d : Nat) : (w.setCell ⟨g, 5, none⟩ (.slice B m d)).heap[g]? = some (seven i o si so er B m d p) := by
  unfold seven at *
  rw [obj_set h 5 _]; rfl
theorem seven_set6 {w : World} {g i o si so er : Nat} {A : Option Addr} {n c p : Nat} (h : w.heap[g]? = some (seven i o si so er A n c p)) (q : Nat) : (w.setCell ⟨g, 6, none⟩ (.int .i64 (q : Int))).heap[g]? = some (seven i o si so er A n c q) := by
  unfold seven at *
  rw [obj_set h 6 _]; rfl
theorem seven_set4 {w : World} {g i o si so er : Nat} {A : Option Addr} {n c p : Nat} (h : w.heap[g]? = some (seven i o si so er A n c p)) (q : Nat) : (w.setCell ⟨g, 4, none⟩ (.int .i64 (q : Int))).heap[g]? = some (seven i o si so q A n c p) := by
  unfold seven at *
  rw [obj_set h 4 _]; rfl
theorem seven_mark {w : World} {g i o si so er : Nat} {A : Option Addr} {n c p : Nat} (h : w.heap[g]? = some (seven i o si so er A n c p)) (i' o' si' so' : Nat) :
    ((((w.setCell ⟨g, 0, none⟩ (.int .i64 (i' : Int))).setCell ⟨g, 1, none⟩ (.int .i64 (o' : Int))).setCell ⟨g, 2, none⟩ (.int .u32 (si' : Int))).setCell ⟨g, 3, none⟩ (.int .u32 (so' : Int))).heap[g]? = some (seven i' o' si' so' er A n c p) := by
  unfold seven at *
  exact obj_set (obj_set (obj_set (obj_set h 0 _) 1 _) 2 _) 3 _
theorem Fx.set {X : Nat → Prop} {a b : World} (h : Fx X a b) {p : Addr} (hp : X p.block ∨ a.heap.size ≤ p.block) (u : Value) : Fx X a (b.setCell p u) :=
  ⟨h.os, h.tape, h.output, by rw [World.size_setCell]; exact h.size, fun i hi hn => by
    rw [Below.heap_setCell _ _ _ _ (fun e => by subst e; rcases hp with h1 | h1; exact hn h1; omega)]
    exact h.block i hi hn⟩

theorem failed_code (w : World) (g i o si so er : Nat) (A : Option Addr) (n c p : Nat) (h : w.heap[g]? = some (seven i o si so er A n c p)) :
    Calls Tryz.prog 17 #[.pointer (some ⟨g, 0, none⟩)] w fun e w' => e = .returned (.int .i64 (er : Int)) ∧ w = w' := by
  obtain ⟨_, _, _, _, _, x4, _, _⟩ := seven_cells h
  go_enter Tryz.func17, Tryz.ntmps17
  go_wp2_with fail
  go_ret
  exact ⟨rfl, rfl⟩
theorem failed_nil (w : World) : Calls Tryz.prog 17 #[.pointer none] w fun e w' => e = .returned (.int .i64 1) ∧ w = w' := by
  go_enter Tryz.func17, Tryz.ntmps17
  go_wp2_with fail
  go_ret
  exact ⟨rfl, rfl⟩
theorem all_code (w : World) (g i o si so er : Nat) (A : Option Addr) (n c p : Nat) (h : w.heap[g]? = some (seven i o si so er A n c p)) :
    Calls Tryz.prog 24 #[.pointer (some ⟨g, 0, none⟩)] w fun e w' => e = .returned (.tuple #[.int .i64 (n : Int), .int .i64 0]) ∧ w = w' := by
  obtain ⟨_, _, _, _, _, _, x5, _⟩ := seven_cells h
  go_enter Tryz.func24, Tryz.ntmps24
  go_wp2_with fail
  go_ret2
  exact ⟨rfl, rfl⟩

/-- What right answers. -/
def RightP (l : List UInt8) (w : World) (e : Ending) (w' : World) : Prop :=
  Up w w' ∧ ((BadB l ∧ e = .returned (.tuple #[.slice none 0 0, .int .i64 6])) ∨ (¬ BadB l ∧ ∃ ds B c, U.Cps ds ∧ rightOf l = U.encs ds ∧ e = .returned (.tuple #[.slice B ds.length c, .int .i64 0]) ∧ w'.ownsRow w.heap.size 28 1 (.slice B ds.length c) ds.length (us ds)))
set_option maxRecDepth 100000 in
theorem right_code (A : Option Addr) (n d : Nat) (l : List UInt8) (w : World) (h : Rd w A d (bs l)) (hn : n = l.length) (hmax : n ≤ 4000) :
    Calls Tryz.prog 27 #[.slice A n d] w (RightP l w) := by
  have c1 := Lib.hid (fault_code A d n l w h hn)
  by_cases hf : 0 ≤ U.fault l
  · obtain ⟨k, hk⟩ : ∃ k : Nat, U.fault l = k := ⟨(U.fault l).toNat, by omega⟩
    have hkl : k ≤ l.length := by have := (U.fault_ge l).2; omega
    have hkn : k ≤ n := by omega
    obtain ⟨A1, hsl1, hr1⟩ := h.head n k hn hkn
    obtain ⟨A2, hsl2, hr2⟩ := h.tail n k hn hkn
    have co := fun w' (u : Up w w') => open_code A2 (d - k) (n - k) (l.drop k) w' (hr2.up u) (by rw [List.length_drop]; omega)
    have hkt : (U.fault l).toNat = k := by omega
    have hrt : rightOf l = l.take k := by unfold rightOf; rw [if_pos hf, hkt]
    have hbd : BadB l ↔ ¬ U.opn (l.drop k) := by unfold BadB; rw [hkt]; exact ⟨fun hx => hx.2, fun hx => ⟨hf, hx⟩⟩
    have Hc := Lib.hid (show k ≤ d by have := h.fit; rw [bs_len] at this; omega)
    have Hdm := Lib.hid (show d ≤ 9223372036854775807 by have := h.max; unfold maxLen at this; omega)
    rw [hk] at c1
    by_cases ho : U.opn (l.drop k)
    · have hnb : Hid (¬ BadB l) := Lib.hid (fun hx => hbd.1 hx ho)
      have CO := Lib.hid (fun w' u => by have := co w' u; rw [decide_eq_true ho] at this; exact this)
      have HX := Lib.hid (show ∃ cs, U.Cps cs ∧ l.take k = U.encs cs from by
        obtain ⟨cs, hc, hl, hf2, _, _⟩ := U.fault_cut hf
        refine ⟨cs, hc, ?_⟩
        have : k = (U.encs cs).length := by omega
        rw [this]
        conv => lhs; rw [hl]
        exact List.take_left)
      have CC := Lib.hid (fun w' (u : Up w w') => codes_own A1 d k (l.take k) w' (hr1.up u) (by rw [List.length_take]; omega) (by omega))
      have HRT := Lib.hid hrt
      clear co hbd hrt hf hk hkt hkl ho hr1 hr2 h hn
      have hdm := Hdm.out
      have hkd := Hc.out
      go_enter Tryz.func27, Tryz.ntmps27
      go_wp2_with fail
      refine c1.out.mono ?_
      rintro e w1 ⟨rfl, hu1⟩
      go_wp2_with fail
      refine (CO.out w1 hu1).mono ?_
      rintro e w2 ⟨rfl, hu2⟩
      go_wp2_with fail
      refine (CC.out w2 (hu1.trans hu2)).mono ?_
      rintro e w3 ⟨hu3, ⟨cs, B, b, hcs, hl, rfl, hrd⟩ | ⟨hft, rfl⟩⟩
      · have HWS := Lib.hid (Nat.le_trans hu1.size hu2.size)
        have HG := Lib.hid (show RightP l w (.returned (.tuple #[.slice B cs.length b, .int .i64 0])) w3 from ⟨(hu1.trans hu2).trans hu3, .inr ⟨hnb.out, cs, B, b, hcs, HRT.out.trans hl, rfl, own_base hrd HWS.out⟩⟩)
        clear hrd hl hcs HWS
        generalize cs.length = cl at *
        go_wp2_with fail
        go_ret2
        exact HG.out
      · obtain ⟨cs, h1, h2⟩ := HX.out
        rw [h2, U.fault_encs h1] at hft
        exact absurd hft (by decide)
    · have hbb : Hid (BadB l) := Lib.hid (hbd.2 ho)
      have CO := Lib.hid (fun w' u => by have := co w' u; rw [decide_eq_false ho] at this; exact this)
      clear co hbd hrt hf hk hkt hkl ho hr1 hr2 h hn
      have hdm := Hdm.out
      have hkd := Hc.out
      go_enter Tryz.func27, Tryz.ntmps27
      go_wp2_with fail
      refine c1.out.mono ?_
      rintro e w1 ⟨rfl, hu1⟩
      go_wp2_with fail
      refine (CO.out w1 hu1).mono ?_
      rintro e w2 ⟨rfl, hu2⟩
      go_wp2_with fail
      go_ret2
      exact ⟨hu1.trans hu2, .inl ⟨hbb.out, rfl⟩⟩
  · have hm1 : U.fault l = -1 := by have := (U.fault_ge l).1; omega
    have hnb : Hid (¬ BadB l) := Lib.hid (fun hx => hf hx.1)
    have HRT := Lib.hid (show rightOf l = l by unfold rightOf; rw [if_neg hf])
    have CC := Lib.hid (fun w' (u : Up w w') => codes_own A d n l w' (h.up u) hn (by omega))
    have HF := Lib.hid hm1
    rw [hm1] at c1
    clear hf hm1 h hn
    go_enter Tryz.func27, Tryz.ntmps27
    go_wp2_with fail
    refine c1.out.mono ?_
    rintro e w1 ⟨rfl, hu1⟩
    go_wp2_with fail
    refine (CC.out w1 hu1).mono ?_
    rintro e w3 ⟨hu3, ⟨cs, B, b, hcs, hl, rfl, hrd⟩ | ⟨hft, rfl⟩⟩
    · have HWS := Lib.hid hu1.size
      have HG := Lib.hid (show RightP l w (.returned (.tuple #[.slice B cs.length b, .int .i64 0])) w3 from ⟨hu1.trans hu3, .inr ⟨hnb.out, cs, B, b, hcs, HRT.out.trans hl, rfl, own_base hrd HWS.out⟩⟩)
      clear hrd hl hcs HWS
      generalize cs.length = cl at *
      go_wp2_with fail
      go_ret2
      exact HG.out
    · rw [HF.out] at hft
      exact absurd hft (by decide)

theorem widthI_cp {c : Nat} : widthI (c : Int) = (U.wid c : Int) := by
  unfold widthI U.wid
  repeat' split
  all_goals omega
set_option maxRecDepth 100000 in
theorem width_list (A : Option Addr) (n d : Nat) (l : List Nat) (w : World) (h : Rd w A d (us l)) (hn : n = l.length) (hmax : n ≤ 8000) (hc : U.Cps l) :
    Calls Tryz.prog 28 #[.slice A n d] w fun e w' => e = .returned (.int .i64 ((U.encs l).length : Int)) ∧ Up w w' := by
  have hfit := h.fit
  have hmx := h.max
  rw [us_len] at hfit
  unfold maxLen at hmx
  have hfn : n ≤ d := by omega
  have hmd : d ≤ 9223372036854775807 := by omega
  have HT := Lib.hid (fun k (hk : k < l.length) => show (U.encs (l.take (k + 1))).length = (U.encs (l.take k)).length + U.wid l[k] by
    rw [List.take_succ_eq_append_getElem hk, U.encs_append, List.length_append, U.encs_cons, U.encs_nil, List.append_nil, U.enc_len (hc _ (List.getElem_mem hk))])
  have HB := Lib.hid (fun k => show (U.encs (l.take k)).length ≤ 32000 by
    have h1 := U.encs_len_4 (l.take k) (cps_take hc k)
    rw [List.length_take] at h1
    omega)
  have HE := Lib.hid (show (U.encs (l.take n)).length = (U.encs l).length by rw [hn, List.take_length])
  have H := Lib.hid h
  have Hn := Lib.hid hn
  clear h hn hfit hmx hc
  go_enter Tryz.func28, Tryz.ntmps28
  go_wp2_with fail
  go_loopw [3, 8] (fun y i wr => ∃ k : Nat, k ≤ n ∧ i = .int .i64 (k : Int) ∧ y = .int .i64 ((U.encs (l.take k)).length : Int) ∧ Up w wr) (fun _ i _ => n - (intOf i).toNat)
  case atStart => exact ⟨0, Nat.zero_le _, rfl, rfl, Up.refl w⟩
  case round =>
    obtain ⟨k, hk, rfl, rfl, hu⟩ := hrel
    by_cases hlt : k < n
    · have hkl : k < l.length := by rw [← Hn.out]; exact hlt
      have hstep := Lib.hid (HT.out k hkl)
      have hX := HB.out k
      obtain ⟨a, rfl, _⟩ := H.out.ad (by omega)
      have hcell : wr.cell? (a.add k) = some (.int .u32 (l[k] : Int)) := (H.out.up hu).cell a rfl k _ (us_get l k hkl)
      have hw4 := U.wid_le l[k]
      have CW := Lib.hid (fun w' => by have := width_code (l[k] : Int) w'; rw [widthI_cp] at this; exact this)
      clear HT HB HE
      generalize (U.encs (l.take k)).length = X at *
      generalize U.wid l[k] = v at *
      generalize l[k] = b at *
      go_wp2_with fail
      refine (CW.out _).mono ?_
      rintro e w2 ⟨rfl, rfl⟩
      go_wp2_with fail
      go_roundw
      case rel => exact ⟨k + 1, by omega, by go_num, by rw [hstep.out]; go_num, hu⟩
      case measure => simp [intOf]; omega
    · obtain rfl : k = n := by omega
      have hXe := HE.out
      rw [hXe]
      clear HT HB HE hXe
      go_wp2_with fail
      go_ret
      exact ⟨rfl, hu⟩

end Go.Proofs.YtipemmjbgegmfaaGreatDoor

/- The program's stream: safe, letGo. -/
namespace Go.Proofs.YtipemmjbgegmfaaGreatDoor
open Go.RowKit Go.Proofs.YtipemmjbgegmfaaGreatDoor.Ordr Go.Proofs.YtipemmjbgegmfaaGreatDoor.Cmpr

/-- What safe answers. -/
def SafeP (w : World) (g i o si so er : Nat) (A : Option Addr) (n c : Nat) (l : List UInt8) (e : Ending) (w' : World) : Prop :=
  (BadB l ∧ e = .returned (.tuple #[.int .i64 0, .int .i64 6]) ∧ Up w w') ∨
  (¬ BadB l ∧ e = .returned (.tuple #[.int .i64 (safeB (rightOf l) : Int), .int .i64 0]) ∧ ∃ p, w'.heap[g]? = some (seven i o si so er A n c p) ∧ Fx (fun b => b = g) w w' ∧ (safeB (rightOf l) = 0 → LastOk l p))

set_option maxRecDepth 100000 in
set_option maxHeartbeats 400000 in
theorem safe_code (w : World) (g i o si so er : Nat) (A : Option Addr) (n c p : Nat) (l : List UInt8) (h : w.heap[g]? = some (seven i o si so er A n c p)) (hr : Rd w A c (bs l)) (hn : n = l.length) (hmax : n ≤ 4000) (hp : LastOk l p) :
    Calls Tryz.prog 19 #[.pointer (some ⟨g, 0, none⟩)] w (SafeP w g i o si so er A n c l) := by
  obtain ⟨hbad, ds, hk⟩ := look hp
  have hpn : p ≤ n := by have := hp.le; omega
  obtain ⟨A1, hsl1, hr1⟩ := hr.tail n p hn hpn
  have hcn : n ≤ c := by have := hr.fit; rw [bs_len] at this; omega
  have hcm : c ≤ 9223372036854775807 := by have := hr.max; unfold maxLen at this; omega
  have CR := Lib.hid (right_code A1 (n - p) (c - p) (l.drop p) w hr1 (by rw [List.length_drop]; omega) (by omega))
  have HDL := Lib.hid (show ds.length ≤ 4000 by
    have h1 := U.encs_len_le ds hk.cps
    have h2 := congrArg List.length hk.right
    have h3 : (rightOf (l.drop p)).length ≤ (l.drop p).length := by
      unfold rightOf; split
      · rw [List.length_take]; omega
      · exact Nat.le_refl _
    rw [List.length_drop] at h3
    omega)
  obtain ⟨fz, -, -, -, -, -, x5, x6⟩ := seven_cells h
  have HH := Lib.hid h
  have HGL := Lib.hid (obj_lt h)
  have HB := Lib.hid hbad
  have HK := Lib.hid hk
  have HL := Lib.hid hp
  clear hbad hk hr hr1 hn hp h
  go_enter Tryz.func19, Tryz.ntmps19
  go_wp2_with fail
  refine CR.out.mono ?_
  rintro e w1 ⟨hu1, ⟨hb, rfl⟩ | ⟨hb, ds2, B, d, hc2, hr2, rfl, hO⟩⟩
  · have hb2 := Lib.hid (HB.out.2 hb)
    clear hb
    go_wp2_with fail
    go_ret2
    exact .inl ⟨hb2.out, rfl, hu1⟩
  · have hb2 := Lib.hid (fun hx => hb (HB.out.1 hx))
    clear hb HB
    have hds : ds2 = ds := U.encs_inj hc2 HK.out.cps (hr2.symm.trans HK.out.right)
    subst hds
    clear hr2
    by_cases h0 : ds2 = []
    · subst h0
      have hx := Lib.hid (HK.out.none_ rfl)
      have HF := Lib.hid (obj_up HH.out hu1)
      clear hO HK
      go_wp2_with fail
      go_ret2
      exact .inr ⟨hb2.out, by rw [hx.out.1]; rfl, p, HF.out, Fx.of_up hu1, fun _ => hx.out.2⟩
    · have hlen : 0 < ds2.length := List.length_pos_iff.2 h0
      have hdl := HDL.out
      have hrd := own_read hO
      obtain ⟨m, hm⟩ : ∃ m, ds2.length = m + 1 := ⟨ds2.length - 1, by omega⟩
      obtain ⟨B1, hsl2, hr2⟩ := hrd.headU (m + 1) m hm.symm (by omega)
      have hm4 : m ≤ 3999 := by omega
      have CW := Lib.hid (fun w' (u : Up w1 w') => width_list B1 m d (ds2.take m) w' (hr2.up u) (by rw [List.length_take]; omega) (by omega) (cps_take hc2 _))
      have hdd : m + 1 ≤ d := by have := hrd.fit; rw [us_len] at this; omega
      have hdm : d ≤ 9223372036854775807 := by have := hrd.max; unfold maxLen at this; omega
      have hX4 : (U.encs (ds2.take m)).length ≤ 32000 := by
        have h1 := U.encs_len_4 (ds2.take m) (cps_take hc2 m)
        rw [List.length_take] at h1
        omega
      have hst := HK.out.stay h0
      rw [show ds2.length - 1 = m by omega] at hst
      have HST := Lib.hid hst
      have HSM := Lib.hid HK.out.some_
      have HO := Lib.hid hO
      have HM := Lib.hid hm
      have HC := Lib.hid hc2
      rw [hm]
      clear hrd hO hm hst hr2 hlen hdl HK h0 hc2
      generalize (U.encs (ds2.take m)).length = X at *
      go_wp2_with fail
      refine (CW.out _ (Up.refl _)).mono ?_
      rintro e w2 ⟨rfl, hu2⟩
      obtain ⟨fz2, -, -, -, -, -, -, z6⟩ := seven_cells (obj_up HH.out (hu1.trans hu2))
      have HH2 := Lib.hid (seven_set6 (obj_up HH.out (hu1.trans hu2)) (p + X))
      have HF2 := Lib.hid ((Fx.of_up (X := fun b => b = g) (hu1.trans hu2)).set (p := ⟨g, 6, none⟩) (.inl rfl) (.int .i64 ((p + X : Nat) : Int)))
      have HO2 := Lib.hid (show (w2.setCell ⟨g, 6, none⟩ (.int .i64 ((p + X : Nat) : Int))).ownsRow w.heap.size 28 1 (.slice B (m + 1) d) (m + 1) (us ds2) from by
        have h1 := own_up HO.out hu2
        rw [HM.out] at h1
        exact own_fx h1 ((Fx.refl (fun b => b = g) w2).set (p := ⟨g, 6, none⟩) (.inl rfl) _) (fun b hb hx => by have := (h1.lt b hb).1; have := HGL.out; omega))
      have hpx : ((p + X : Nat) : Int) = (p : Int) + (X : Int) := by omega
      rw [hpx] at HH2 HF2 HO2
      clear CW
      go_wp2_with fail
      have hr3 := own_read HO2.out
      generalize w2.setCell ⟨g, 6, none⟩ (.int .i64 ((p : Int) + (X : Int))) = w3 at *
      have CS := Lib.hid (nsafe_prog B (m + 1) d ds2 w3 hr3 HM.out.symm (by omega))
      have hsl := safeOf_le ds2
      have HS0 := HSM.out
      have HT0 := HST.out
      clear HSM HST
      generalize hK : safeOf ds2 = K at *
      have HKe := Lib.hid hK
      clear hK
      have HSM := Lib.hid HS0
      have HST := Lib.hid HT0
      clear HS0 HT0
      rw [HM.out] at hsl
      obtain ⟨B2, hsl3, hr4⟩ := hr3.headU (m + 1) K HM.out.symm (by omega)
      refine CS.out.mono ?_
      rintro e w4 ⟨rfl, hu4⟩
      have HH4 := Lib.hid (obj_up HH2.out hu4)
      have HF4 := Lib.hid (HF2.out.trans (Fx.of_up hu4))
      by_cases hK0 : K = 0
      · subst hK0
        have hx := Lib.hid (HST.out rfl)
        clear hr4 hr3 CS HSM HST
        go_wp2_with fail
        go_ret2
        exact .inr ⟨hb2.out, by rw [hx.out.1]; rfl, p + X, HH4.out, HF4.out, fun _ => hx.out.2⟩
      · have hx := Lib.hid (HSM.out hK0)
        have CW2 := Lib.hid (width_list B2 K d (ds2.take K) w4 (hr4.up hu4) (by rw [List.length_take]; have := HM.out; omega) (by omega) (cps_take HC.out _))
        have hY4 : (U.encs (ds2.take K)).length ≤ 32000 := by
          have h1 := U.encs_len_4 (ds2.take K) (cps_take HC.out K)
          rw [List.length_take] at h1
          omega
        have hYp : 0 < (U.encs (ds2.take K)).length := by
          have h1 := U.encs_len_le (ds2.take K) (cps_take HC.out K)
          rw [List.length_take, HM.out] at h1
          omega
        clear hr4 hr3 CS HSM HST
        generalize (U.encs (ds2.take K)).length = Y at *
        go_wp2_with fail
        refine CW2.out.mono ?_
        rintro e w5 ⟨rfl, hu5⟩
        go_wp2_with fail
        go_ret2
        refine .inr ⟨hb2.out, by rw [hx.out]; go_num, p + X, obj_up HH4.out hu5, HF4.out.trans (Fx.of_up hu5), fun h9 => ?_⟩
        have h1 := hx.out
        exact absurd h9 (by omega)

end Go.Proofs.YtipemmjbgegmfaaGreatDoor

/- The program's stream: letGo. -/
namespace Go.Proofs.YtipemmjbgegmfaaGreatDoor
open Go.RowKit Go.Proofs.YtipemmjbgegmfaaGreatDoor.Ordr Go.Proofs.YtipemmjbgegmfaaGreatDoor.Cmpr

theorem kept_ups : Kept Up := ⟨Up.refl, fun _ _ _ => Up.trans⟩
/-- What letGo leaves. -/
def GoneP (w : World) (g i o si so er : Nat) (l T : List UInt8) (k : Nat) (old : Value) (e : Ending) (w' : World) : Prop :=
  e = .returned (.tuple #[]) ∧ ∃ A' c' p', w'.heap[g]? = some (seven (i + k) (o + T.length) (crcOn si (l.take k)) (crcOn so T) er A' (l.length - k) c' p') ∧ w'.ownsRow 0 5 1 (.slice A' (l.length - k) c') (l.length - k) (bs (l.drop k)) ∧
    LastOk (l.drop k) p' ∧ Fx (fun b => b = g) w w' ∧ ∀ b, (Value.slice A' (l.length - k) c').ownBlock = some b → old.ownBlock = some b ∨ w.heap.size ≤ b

set_option maxRecDepth 100000 in
set_option maxHeartbeats 3200000 in
theorem letgo_code (w : World) (g i o si so er : Nat) (A : Option Addr) (n c p : Nat) (l T : List UInt8) (k : Nat) (B : Option Addr) (m d : Nat)
    (h : w.heap[g]? = some (seven i o si so er A n c p)) (hO : w.ownsRow 0 5 1 (.slice A n c) n (bs l)) (hoff : (Value.slice A n c).ownBlock ≠ some g) (hn : n = l.length) (hmax : n ≤ 4000) (hk : k ≤ n) (hT : Rd w B d (bs T)) (hm : m = T.length) (hmm : m ≤ 100000)
    (hi : i ≤ 2199023255552) (ho : o ≤ 2199023255552) (hsi : si < 4294967296) (hso : so < 4294967296) (h0 : k = 0 → T = [] ∧ LastOk l p) :
    Calls Tryz.prog 26 #[.pointer (some ⟨g, 0, none⟩), .int .i64 (k : Int), .slice B m d] w (GoneP w g i o si so er l T k (.slice A n c)) := by
  by_cases hk0 : k = 0
  · subst hk0
    obtain ⟨rfl, hl⟩ := h0 rfl
    have HG := Lib.hid (show GoneP w g i o si so er l [] 0 (.slice A n c) (.returned (.tuple #[])) w from by
      refine ⟨rfl, A, c, p, ?_, ?_, by rw [List.drop_zero]; exact hl, Fx.refl _ _, fun b hb => .inl (by rw [Nat.sub_zero, ← hn] at hb; exact hb)⟩
      · rw [List.take_zero, crcOn_nil, crcOn_nil, Nat.sub_zero, ← hn]; exact h
      · rw [List.drop_zero, Nat.sub_zero, ← hn]; exact hO)
    clear h hO hoff hn hmax hk hT hm hmm hi ho hsi hso h0 hl
    go_enter Tryz.func26, Tryz.ntmps26
    go_wp2_with fail
    refine bodyPost_ret (results_none rfl _ _ _) rfl ?_
    exact HG.out
  · have hr := own_read hO
    obtain ⟨A1, hsl1, hr1⟩ := hr.head n k hn hk
    have hlen1 : k = (l.take k).length := by rw [List.length_take]; omega
    have hlen2 : n - k = (l.drop k).length := by rw [List.length_drop]; omega
    have F1 := Lib.hid (from_code (si : Int))
    have F2 := Lib.hid (from_code (so : Int))
    have D1 := Lib.hid (fun w' (u : Up w w') => add_code A1 k c si (l.take k) w' hsi (hr1.up u) hlen1)
    have D2 := Lib.hid (fun w' (u : Up w w') => add_code B m d so T w' hso (hT.up u) hm)
    have V1 := Lib.hid (value_code (crcOn si (l.take k) : Int))
    have V2 := Lib.hid (value_code (crcOn so T : Int))
    have HX := Lib.hid (fun w' (u : Up w w') => seven_cells (obj_up h u))
    have HH := Lib.hid h
    have HGL := Lib.hid (obj_lt h)
    have HL2 := Lib.hid hlen2
    have HS1 := Lib.hid hsl1
    have hcn : n ≤ c := by have := hr.fit; rw [bs_len] at this; omega
    have hcm : c ≤ 9223372036854775807 := by have := hr.max; unfold maxLen at this; omega
    have hmd : m ≤ d := by have := hT.fit; rw [bs_len] at this; omega
    have hdm : d ≤ 9223372036854775807 := by have := hT.max; unfold maxLen at this; omega
    have HN := Lib.hid hn
    have HO := Lib.hid hO
    have HOF := Lib.hid hoff
    have HM := Lib.hid hm
    have HQ1 := Lib.hid (show crcOn si (l.take k) < 4294967296 from crcOn_lt hsi _)
    have HQ2 := Lib.hid (show crcOn so T < 4294967296 from crcOn_lt hso _)
    have HT := Lib.hid hT
    clear h hO hoff hr hr1 hlen1 hlen2 hT hsi hso h0 hn hm hsl1
    go_enter Tryz.func26, Tryz.ntmps26
    go_wp2_with fail
    refine wp_region_pe (R := Up) [(0, false), (1, false), (2, false), (3, false), (4, false), (5, false), (6, false), (7, false), (8, false), (9, false), (10, false), (11, false), (12, false), (13, false), (14, false), (15, false), (16, false), (17, false), (18, false), (19, false), (20, false), (22, false), (23, false), (24, false), (25, false), (26, false), (27, false), (30, false), (31, false), (32, false), (33, false), (34, false), (36, false), (21, true), (28, true), (29, true), (35, true), (37, true), (38, true), (39, false), (40, false), (41, false)] 42 kept_ups (by kernel_rfl) (by kernel_rfl) (fun _ _ d _ _ h => by cases d <;> exact h) ?_
    iterate 33 (((with_reducible apply pe_take); (focus exact rfl); (focus exact rfl); (focus (intro w' hu2; obtain ⟨_, b0, b1, b2, b3, b4, b5, b6⟩ := HX.out w' ((Up.refl w).drew.trans hu2); have hs1 := HS1.out; go_simp; first | done | with_reducible rfl))); ((try dsimp only [Act.put]); (try simp only [List.setIfInBounds_toArray, List.set_cons_succ, List.set_cons_zero])))
    refine pe_make rfl rfl (fun K hK => ?_)
    go_simp
    refine (F1.out _).mono ?_
    rintro e u1 ⟨rfl, hu1⟩
    refine hK.out _ _ hu1 ?_
    clear hK K
    ((try dsimp only [Act.put]); (try simp only [Act.put, List.setIfInBounds_toArray, List.set_cons_succ, List.set_cons_zero]))
    refine pe_make rfl rfl (fun K hK => ?_)
    go_simp
    refine (D1.out _ ((Up.refl w).drew.trans hu1)).mono ?_
    rintro e u2 ⟨rfl, hu2⟩
    refine hK.out _ _ hu2 ?_
    clear hK K
    ((try dsimp only [Act.put]); (try simp only [Act.put, List.setIfInBounds_toArray, List.set_cons_succ, List.set_cons_zero]))
    refine pe_make rfl rfl (fun K hK => ?_)
    go_simp
    refine (V1.out _).mono ?_
    rintro e u3 ⟨rfl, hu3⟩
    refine hK.out _ _ hu3 ?_
    clear hK K
    ((try dsimp only [Act.put]); (try simp only [Act.put, List.setIfInBounds_toArray, List.set_cons_succ, List.set_cons_zero]))
    refine pe_make rfl rfl (fun K hK => ?_)
    go_simp
    refine (F2.out _).mono ?_
    rintro e u4 ⟨rfl, hu4⟩
    refine hK.out _ _ hu4 ?_
    clear hK K
    ((try dsimp only [Act.put]); (try simp only [Act.put, List.setIfInBounds_toArray, List.set_cons_succ, List.set_cons_zero]))
    refine pe_make rfl rfl (fun K hK => ?_)
    go_simp
    refine (D2.out _ (((((Up.refl w).drew.trans hu1).trans hu2).trans hu3).trans hu4)).mono ?_
    rintro e u5 ⟨rfl, hu5⟩
    refine hK.out _ _ hu5 ?_
    clear hK K
    ((try dsimp only [Act.put]); (try simp only [Act.put, List.setIfInBounds_toArray, List.set_cons_succ, List.set_cons_zero]))
    refine pe_make rfl rfl (fun K hK => ?_)
    go_simp
    refine (V2.out _).mono ?_
    rintro e u6 ⟨rfl, hu6⟩
    refine hK.out _ _ hu6 ?_
    clear hK K
    ((try dsimp only [Act.put]); (try simp only [Act.put, List.setIfInBounds_toArray, List.set_cons_succ, List.set_cons_zero]))
    have hU := ((((((Up.refl w).drew.trans hu1).trans hu2).trans hu3).trans hu4).trans hu5).trans hu6
    iterate 3 (((with_reducible apply pe_take); (focus exact rfl); (focus exact rfl); (focus (intro w' hu2; go_simp; first | done | with_reducible rfl))); ((try dsimp only [Act.put]); (try simp only [List.setIfInBounds_toArray, List.set_cons_succ, List.set_cons_zero])))
    obtain ⟨fz, z0, z1, z2, z3, z4, z5, z6⟩ := HX.out _ hU
    refine pe_last rfl rfl ?_
    go_simp
    have HH6 := seven_mark (obj_up HH.out hU) (i + k) (o + m) (crcOn si (l.take k)) (crcOn so T)
    have HF6 := ((((Fx.of_up (X := fun b => b = g) hU).set (p := ⟨g, 0, none⟩) (.inl rfl) (.int .i64 ((i + k : Nat) : Int))).set (p := ⟨g, 1, none⟩) (.inl rfl) (.int .i64 ((o + m : Nat) : Int))).set (p := ⟨g, 2, none⟩) (.inl rfl) (.int .u32 (crcOn si (l.take k) : Int))).set (p := ⟨g, 3, none⟩) (.inl rfl) (.int .u32 (crcOn so T : Int))
    rw [show ((i + k : Nat) : Int) = (i : Int) + (k : Int) by omega, show ((o + m : Nat) : Int) = (o : Int) + (m : Int) by omega] at HH6 HF6
    have hw1 : IntKind.i64.wrap ((i : Int) + (k : Int)) = (i : Int) + (k : Int) := IntWalk.i64_in _ (by omega)
    have hw2 : IntKind.i64.wrap ((o : Int) + (m : Int)) = (o : Int) + (m : Int) := IntWalk.i64_in _ (by omega)
    simp only [hw1, hw2]
    generalize (((u6.setCell ⟨g, 0, none⟩ (.int .i64 ((i : Int) + (k : Int)))).setCell ⟨g, 1, none⟩ (.int .i64 ((o : Int) + (m : Int)))).setCell ⟨g, 2, none⟩ (.int .u32 (crcOn si (l.take k) : Int))).setCell ⟨g, 3, none⟩ (.int .u32 (crcOn so T : Int)) = w7 at *
    have H7 := Lib.hid HH6
    have G7 := Lib.hid HF6
    obtain ⟨-, -, -, -, -, -, y5, -⟩ := seven_cells HH6
    have hO7 := own_fx HO.out HF6 (fun b hb hx => by subst hx; exact HOF.out hb)
    obtain ⟨A3, hsl3, hr3⟩ := (own_read hO7).tail n k HN.out hk
    have CC := Lib.hid (clone_code A3 (c - k) (n - k) (l.drop k) w7 hr3 HL2.out (by omega))
    clear HH6 HF6 fz z0 z1 z2 z3 z4 z5 z6 hO7 hr3 F1 F2 D1 D2 V1 V2 hu1 hu2 hu3 hu4 hu5 hu6 HQ1 HQ2 HX HS1
    have hkc : k ≤ c := Nat.le_trans hk hcn
    go_wp2_with fail
    refine CC.out.mono ?_
    rintro e w8 ⟨A8, c8, rfl, -, hu8, hO8⟩
    have H8 := obj_up H7.out hu8
    obtain ⟨fz8, -, -, -, -, -, q5, q6⟩ := seven_cells H8
    have H9 := seven_set5 H8 A8 (n - k) c8
    obtain ⟨fz9, -, -, -, -, -, r5, r6⟩ := seven_cells H9
    have HA := Lib.hid (seven_set6 H9 0)
    have FA := Lib.hid (((G7.out.trans (Fx.of_up hu8)).set (p := ⟨g, 5, none⟩) (.inl rfl) (.slice A8 (n - k) c8)).set (p := ⟨g, 6, none⟩) (.inl rfl) (.int .i64 ((0 : Nat) : Int)))
    have hg8 : ¬ (Value.slice A8 (n - k) c8).ownBlock = some g := fun hb => by
      have h1 := (hO8.lt g hb).1
      have h2 := G7.out.size
      have h3 := HGL.out
      omega
    have OA := Lib.hid (own_fx hO8 (((Fx.refl (fun b => b = g) w8).set (p := ⟨g, 5, none⟩) (.inl rfl) (.slice A8 (n - k) c8)).set (p := ⟨g, 6, none⟩) (.inl rfl) (.int .i64 ((0 : Nat) : Int))) (fun b hb hx => by subst hx; exact hg8 hb))
    have LA := Lib.hid (fun b (hb : (Value.slice A8 (n - k) c8).ownBlock = some b) => (show w.heap.size ≤ b from by have := (hO8.lt b hb).1; have := G7.out.size; omega))
    rw [show (((0 : Nat) : Int)) = 0 from rfl] at HA FA OA
    clear H8 H9 hO8 hg8 CC
    go_wp2_with fail
    go_end0
    refine ⟨rfl, A8, c8, 0, ?_, ?_, .inl rfl, ?_, ?_⟩
    · have := HA.out
      rw [← HM.out, ← HN.out]
      exact this
    · rw [← HN.out]
      exact own_base OA.out (Nat.zero_le _)
    · exact FA.out
    · intro b hb
      rw [← HN.out] at hb
      exact .inr (LA.out b hb)

end Go.Proofs.YtipemmjbgegmfaaGreatDoor

/- The program's stream: give, by any look. -/
namespace Go.Proofs.YtipemmjbgegmfaaGreatDoor
open Go.RowKit Go.Proofs.YtipemmjbgegmfaaGreatDoor.Ordr Go.Proofs.YtipemmjbgegmfaaGreatDoor.Cmpr

theorem hrows_fx {w w' : World} (h : HRows w) {X : Nat → Prop} (hf : Fx X w w') (hX : ¬ X 0) : HRows w' :=
  h.of fun i _ => by
    have e := hf.block _ h.lt hX
    unfold World.cell?
    simp only [e]
/-- The safe place of bytes is a place behind right ones. -/
theorem safe_right (l : List UInt8) : safeB (rightOf l) ≤ l.length ∧ ∃ cs, U.Cps cs ∧ l.take (safeB (rightOf l)) = U.encs cs := by
  obtain ⟨ds, hd, hr, q, hq⟩ := right_cps l
  rw [hr, safeB_encs hd]
  generalize safeOf ds = k
  have e : l = U.encs (ds.take k) ++ (U.encs (ds.drop k) ++ q) := by rw [← List.append_assoc, ← U.encs_append, List.take_append_drop]; exact hq
  refine ⟨by conv => rhs; rw [e]
             rw [List.length_append]; omega, ds.take k, cps_take hd k, ?_⟩
  conv => lhs; rw [e]
  exact List.take_left

set_option maxRecDepth 100000 in
theorem give_bad (G : Nat) (eG : ∀ args w, (callFunc G args).run Tryz.prog w = .ok (.enter G args) w) (w : World) (g i o si so er : Nat) (A : Option Addr) (n c p : Nat) (h : w.heap[g]? = some (seven i o si so er A n c p))
    (CL : Calls Tryz.prog G #[.pointer (some ⟨g, 0, none⟩)] w fun e w' => e = .returned (.tuple #[.int .i64 0, .int .i64 6]) ∧ Up w w') :
    Calls Tryz.prog 18 #[.pointer (some ⟨g, 0, none⟩), .func (.func G) #[.pointer (some ⟨g, 0, none⟩)] #[]] w fun e w' =>
      e = .returned (.tuple #[.slice none 0 0, .int .i64 6]) ∧ w'.heap[g]? = some (seven i o si so 6 none 0 0 p) ∧ Fx (fun b => b = g) w w' := by
  have C := Lib.hid CL
  have HH := Lib.hid h
  clear CL h
  go_enter Tryz.func18, Tryz.ntmps18
  go_wp2_with fail
  refine C.out.mono ?_
  rintro e w1 ⟨rfl, hu1⟩
  have H1 := obj_up HH.out hu1
  obtain ⟨fz1, -, -, -, -, x4, -, -⟩ := seven_cells H1
  have H2 := seven_set4 H1 6
  obtain ⟨fz2, -, -, -, -, -, y5, -⟩ := seven_cells H2
  have H3 := Lib.hid (seven_set5 H2 none 0 0)
  have F3 := Lib.hid (((Fx.of_up (X := fun b => b = g) hu1).set (p := ⟨g, 4, none⟩) (.inl rfl) (.int .i64 ((6 : Nat) : Int))).set (p := ⟨g, 5, none⟩) (.inl rfl) (.slice none 0 0))
  rw [show (((6 : Nat) : Int)) = 6 from rfl] at H3 F3 fz2 y5
  clear H1 H2 C eG
  go_wp2_with fail
  go_ret2
  exact ⟨rfl, H3.out, F3.out⟩

set_option maxRecDepth 100000 in
set_option maxHeartbeats 400000 in
theorem give_text (G : Nat) (eG : ∀ args w, (callFunc G args).run Tryz.prog w = .ok (.enter G args) w) (w : World) (g i o si so er : Nat) (A : Option Addr) (n c p : Nat) (l : List UInt8) (h : w.heap[g]? = some (seven i o si so er A n c p))
    (hr : Rd w A c (bs l)) (hn : n = l.length) (hmax : n ≤ 4000) (hw : HRows w) (hft : 0 ≤ U.fault l)
    (CL : Calls Tryz.prog G #[.pointer (some ⟨g, 0, none⟩)] w fun e w' => e = .returned (.tuple #[.int .i64 (n : Int), .int .i64 0]) ∧ w = w') :
    Calls Tryz.prog 18 #[.pointer (some ⟨g, 0, none⟩), .func (.func G) #[.pointer (some ⟨g, 0, none⟩)] #[]] w fun e w' =>
      e = .returned (.tuple #[.slice none 0 0, .int .i64 6]) ∧ w'.heap[g]? = some (seven i o si so 6 none 0 0 p) ∧ Fx (fun b => b = g) w w' := by
  have C := Lib.hid CL
  have HH := Lib.hid h
  obtain ⟨A1, hsl1, hr1⟩ := hr.head n n hn (Nat.le_refl _)
  have ht : l.take n = l := by rw [hn, List.take_length]
  rw [ht] at hr1
  have CT := Lib.hid ((ntext_prog A1 n c l w hw hr1 hn hmax).mono fun e w1 hp => TextP.no hft hp)
  have hcn : n ≤ c := by have := hr.fit; rw [bs_len] at this; omega
  have hcm : c ≤ 9223372036854775807 := by have := hr.max; unfold maxLen at this; omega
  obtain ⟨-, -, -, -, -, -, x5, -⟩ := seven_cells h
  clear CL h hr hn hw hft ht hr1
  go_enter Tryz.func18, Tryz.ntmps18
  go_wp2_with fail
  refine C.out.mono ?_
  rintro e w1 ⟨rfl, rfl⟩
  go_wp2_with fail
  refine CT.out.mono ?_
  rintro e w1 ⟨hu1, D, d, rfl, -⟩
  have H1 := obj_up HH.out hu1
  obtain ⟨fz1, -, -, -, -, x4, -, -⟩ := seven_cells H1
  have H2 := seven_set4 H1 6
  obtain ⟨fz2, -, -, -, -, -, y5, -⟩ := seven_cells H2
  have H3 := Lib.hid (seven_set5 H2 none 0 0)
  have F3 := Lib.hid (((Fx.of_up (X := fun b => b = g) hu1).set (p := ⟨g, 4, none⟩) (.inl rfl) (.int .i64 ((6 : Nat) : Int))).set (p := ⟨g, 5, none⟩) (.inl rfl) (.slice none 0 0))
  rw [show (((6 : Nat) : Int)) = 6 from rfl] at H3 F3 fz2 y5
  clear H1 H2 C eG CT
  go_wp2_with fail
  go_ret2
  exact ⟨rfl, H3.out, F3.out⟩

/-- What give leaves where it gives on. -/
def GaveP (w : World) (g i o si so er : Nat) (l : List UInt8) (k : Nat) (old : Value) (e : Ending) (w' : World) : Prop :=
  ∃ D d, e = .returned (.tuple #[.slice D (txt (l.take k)).length d, .int .i64 0]) ∧ w'.ownsRow w.heap.size 5 1 (.slice D (txt (l.take k)).length d) (txt (l.take k)).length (bs (txt (l.take k))) ∧ (Value.slice D (txt (l.take k)).length d).ownBlock ≠ some g ∧
  ∃ A' c' p', w'.heap[g]? = some (seven (i + k) (o + (txt (l.take k)).length) (crcOn si (l.take k)) (crcOn so (txt (l.take k))) er A' (l.length - k) c' p') ∧ w'.ownsRow 0 5 1 (.slice A' (l.length - k) c') (l.length - k) (bs (l.drop k)) ∧
    LastOk (l.drop k) p' ∧ Fx (fun b => b = g) w w' ∧ (∀ b, (Value.slice A' (l.length - k) c').ownBlock = some b → old.ownBlock = some b ∨ w.heap.size ≤ b) ∧ (∀ b, (Value.slice A' (l.length - k) c').ownBlock = some b → (Value.slice D (txt (l.take k)).length d).ownBlock ≠ some b)

set_option maxRecDepth 100000 in
set_option maxHeartbeats 800000 in
theorem give_ok (G : Nat) (eG : ∀ args w, (callFunc G args).run Tryz.prog w = .ok (.enter G args) w) (w : World) (g i o si so er : Nat) (A : Option Addr) (n c : Nat) (l : List UInt8) (k : Nat)
    (hgl : g < w.heap.size) (hO : w.ownsRow 0 5 1 (.slice A n c) n (bs l)) (hoff : (Value.slice A n c).ownBlock ≠ some g) (hn : n = l.length) (hmax : n ≤ 4000) (hk : k ≤ n) (hcs : ∃ cs, U.Cps cs ∧ l.take k = U.encs cs) (hw : HRows w) (hgr : g ≠ 0)
    (hi : i ≤ 2199023255552) (ho : o ≤ 2199023255552) (hsi : si < 4294967296) (hso : so < 4294967296)
    (CL : Calls Tryz.prog G #[.pointer (some ⟨g, 0, none⟩)] w fun e w' => e = .returned (.tuple #[.int .i64 (k : Int), .int .i64 0]) ∧ ∃ p, w'.heap[g]? = some (seven i o si so er A n c p) ∧ Fx (fun b => b = g) w w' ∧ (k = 0 → LastOk l p)) :
    Calls Tryz.prog 18 #[.pointer (some ⟨g, 0, none⟩), .func (.func G) #[.pointer (some ⟨g, 0, none⟩)] #[]] w (GaveP w g i o si so er l k (.slice A n c)) := by
  have C := Lib.hid CL
  obtain ⟨cs, hc, hen⟩ := hcs
  have hk2 : k = (l.take k).length := by rw [List.length_take]; omega
  have htl := txt_len (l.take k)
  rw [← hk2] at htl
  have htx : txt (l.take k) = U.encs (nfcL cs) := by rw [hen, txt_encs hc]
  have CT := Lib.hid (fun A1 w1 (h1 : HRows w1) (hr1 : Rd w1 A1 c (bs (l.take k))) => (ntext_prog A1 k c (l.take k) w1 h1 hr1 hk2 (by omega)).mono fun e w2 hp => show Up w1 w2 ∧ ∃ B d, e = .returned (.tuple #[.slice B (txt (l.take k)).length d, .int .i64 0]) ∧ w2.ownsRow w1.heap.size 5 1 (.slice B (txt (l.take k)).length d) (txt (l.take k)).length (bs (txt (l.take k))) from by
    rw [hen] at hp
    have := TextP.own hc hp
    rw [← htx] at this
    exact this)
  have HT0 := Lib.hid (show k = 0 → txt (l.take k) = [] from fun e => by subst e; rw [List.take_zero, txt_nil])
  have CG := Lib.hid (fun w2 p B d (h : w2.heap[g]? = some (seven i o si so er A n c p)) (hO2 : w2.ownsRow 0 5 1 (.slice A n c) n (bs l)) (hT : Rd w2 B d (bs (txt (l.take k)))) (h0 : k = 0 → LastOk l p) =>
    letgo_code w2 g i o si so er A n c p l (txt (l.take k)) k B (txt (l.take k)).length d h hO2 hoff hn hmax hk hT rfl (by omega) hi ho hsi hso (fun e => ⟨HT0.out e, h0 e⟩))
  have HO := Lib.hid hO
  have HOF := Lib.hid hoff
  have HGL := Lib.hid hgl
  have HN := Lib.hid hn
  have HW := Lib.hid hw
  have HGR := Lib.hid hgr
  have hcn : n ≤ c := by have := (own_read hO).fit; rw [bs_len] at this; omega
  have hcm : c ≤ 9223372036854775807 := by have := (own_read hO).max; unfold maxLen at this; omega
  clear CL hc hen hk2 htx hO hoff hn hw hgl hgr hi ho hsi hso
  unfold GaveP
  unfold GoneP at CG
  generalize txt (l.take k) = T at *
  go_enter Tryz.func18, Tryz.ntmps18
  go_wp2_with fail
  refine C.out.mono ?_
  rintro e w1 ⟨rfl, p, h1, f1, hl0⟩
  obtain ⟨-, -, -, -, -, -, x5, -⟩ := seven_cells h1
  have hO1 := own_fx HO.out f1 (fun b hb hx => by subst hx; exact HOF.out hb)
  obtain ⟨A1, hsl1, hr1⟩ := (own_read hO1).head n k HN.out hk
  have CT1 := Lib.hid (CT.out A1 w1 (hrows_fx HW.out f1 (fun e => HGR.out e.symm)) hr1)
  have H1 := Lib.hid h1
  have F1 := Lib.hid f1
  have HO1 := Lib.hid hO1
  have HL0 := Lib.hid hl0
  clear C CT HO hr1 h1 f1 hO1 hl0 eG
  go_wp2_with fail
  refine CT1.out.mono ?_
  rintro e w2 ⟨hu2, B, d, rfl, hT⟩
  have CG2 := Lib.hid (CG.out w2 p B d (obj_up H1.out hu2) (own_up HO1.out hu2) (own_read hT) HL0.out)
  have HU2 := Lib.hid hu2
  have HT := Lib.hid hT
  clear CT1 CG hu2 hT x5
  go_wp2_with fail
  refine CG2.out.mono ?_
  rintro e w3 ⟨rfl, A', c', p', h3, hO3, hl3, f3, hx3⟩
  have hTg : (Value.slice B T.length d).ownBlock ≠ some g := fun hb => by
    have h4 := (HT.out.lt g hb).1
    have h5 := F1.out.size
    have h6 := HGL.out
    omega
  have HG := Lib.hid (show ∃ D d_1, Ending.returned (.tuple #[.slice B T.length d, .int .i64 0]) = .returned (.tuple #[.slice D T.length d_1, .int .i64 0]) ∧ w3.ownsRow w.heap.size 5 1 (.slice D T.length d_1) T.length (bs T) ∧ (Value.slice D T.length d_1).ownBlock ≠ some g ∧
      ∃ A' c' p', w3.heap[g]? = some (seven (i + k) (o + T.length) (crcOn si (l.take k)) (crcOn so T) er A' (l.length - k) c' p') ∧ w3.ownsRow 0 5 1 (.slice A' (l.length - k) c') (l.length - k) (bs (l.drop k)) ∧
      LastOk (l.drop k) p' ∧ Fx (fun b => b = g) w w3 ∧ (∀ b, (Value.slice A' (l.length - k) c').ownBlock = some b → (Value.slice A n c).ownBlock = some b ∨ w.heap.size ≤ b) ∧ (∀ b, (Value.slice A' (l.length - k) c').ownBlock = some b → (Value.slice D T.length d_1).ownBlock ≠ some b) from by
    have hs1 := F1.out.size
    have hs2 := HU2.out.size
    refine ⟨B, d, rfl, own_base (own_fx HT.out f3 (fun b hb hx => by subst hx; exact hTg hb)) hs1, hTg, A', c', p', h3, hO3, hl3, (F1.out.trans (Fx.of_up HU2.out)).trans f3, fun b hb => ?_, fun b hb hd => ?_⟩
    · rcases hx3 b hb with h4 | h4
      · exact .inl h4
      · exact .inr (by omega)
    · have h5 := HT.out.lt b hd
      rcases hx3 b hb with h4 | h4
      · have h6 := HO1.out.lt b h4
        omega
      · omega)
  clear h3 hO3 hl3 f3 hx3 hTg CG2 HT HU2 F1 H1 HO1
  go_wp2_with fail
  go_ret2
  exact HG.out

end Go.Proofs.YtipemmjbgegmfaaGreatDoor
