/- Fur: one text of Cmpr Nrmr Ude Hgq Ful Fup. -/
import Derived.Test.YtipemmjbgegmfaaGreatDoorOrd
import Derived.Test.YtipemmjbgegmfaaGreatDoorUnm
import Derived.Test.YtipemmjbgegmfaaGreatDoorHga
import Derived.Test.YtipemmjbgegmfaaGreatDoorFdo

/- Composing, plain: over any classes, any pairs, any decompositions that keep some facts. -/
namespace Go.Proofs.YtipemmjbgegmfaaGreatDoor.Cmpr
open Go.Proofs.YtipemmjbgegmfaaGreatDoor.Ordr
variable (cls : Nat → Nat) (two : Nat → Nat → Option Nat)

/-- What is kept: ahead of the last starter (the last one first) and the last starter, if there is one; behind it (the last one first). -/
abbrev St := Option (List Nat × Nat) × List Nat
def blocked (mid : List Nat) (c : Nat) : Bool := match mid with
  | [] => false
  | k :: _ => decide (cls k = 0) || decide (cls c ≤ cls k)
def keep (σ : St) (c : Nat) : St := match σ with
  | (none, mid) => if cls c = 0 then (some (mid, c), []) else (none, c :: mid)
  | (some (pre, s), mid) => if cls c = 0 then (some (mid ++ s :: pre, c), []) else (some (pre, s), c :: mid)
def step (σ : St) (c : Nat) : St := match σ with
  | (none, mid) => keep cls (none, mid) c
  | (some (pre, s), mid) => if blocked cls mid c = true then keep cls (some (pre, s), mid) c else match two s c with
    | some x => (some (pre, x), mid)
    | none => keep cls (some (pre, s), mid) c
/-- What is kept, the last one first. -/
def back (σ : St) : List Nat := match σ with
  | (none, mid) => mid
  | (some (pre, s), mid) => mid ++ s :: pre
def run (l : List Nat) (σ : St) : St := l.foldl (step cls two) σ
def comp (l : List Nat) : List Nat := (back (run cls two l (none, []))).reverse

theorem back_keep (σ : St) (c : Nat) : back (keep cls σ c) = c :: back σ := by
  rcases σ with ⟨_ | ⟨pre, s⟩, mid⟩ <;> unfold keep back <;> by_cases h : cls c = 0 <;> simp [h]
/-- Either it is kept, or it goes into the last starter. -/
theorem step_cases (σ : St) (c : Nat) : step cls two σ c = keep cls σ c ∨ ∃ pre s mid x, σ = (some (pre, s), mid) ∧ blocked cls mid c = false ∧ two s c = some x ∧ step cls two σ c = (some (pre, x), mid) := by
  rcases σ with ⟨_ | ⟨pre, s⟩, mid⟩
  · exact .inl rfl
  · cases hb : blocked cls mid c with
    | true => left; unfold step; simp [hb]
    | false =>
      cases h2 : two s c with
      | none => left; unfold step; simp [hb, h2]
      | some x => exact .inr ⟨pre, s, mid, x, rfl, hb, h2, by unfold step; simp [hb, h2]⟩
theorem run_app (a b : List Nat) (σ : St) : run cls two (a ++ b) σ = run cls two b (run cls two a σ) := by unfold run; rw [List.foldl_append]
theorem run_snoc (a : List Nat) (c : Nat) (σ : St) : run cls two (a ++ [c]) σ = step cls two (run cls two a σ) c := by rw [run_app]; rfl

/-- What the characters' data keep. -/
structure Good (full : Nat → List Nat) : Prop where
  whole : ∀ x, ∀ y ∈ full x, full y = [y]
  some_ : ∀ x, full x ≠ []
  pair : ∀ a b x, two a b = some x → full x = full a ++ full b
  ord : ∀ x, isOrd cls (full x)
  start : ∀ a b x, two a b = some x → cls x = 0
  second : ∀ a b x, two a b = some x → full b = [b]

variable {full : Nat → List Nat} (G : Good cls two full)

/-- What is kept of p, whole and in order, is p again. -/
structure Inv (full : Nat → List Nat) (p : List Nat) (σ : St) : Prop where
  back : ord cls ((back σ).reverse.flatMap full) = p
  mids : ∀ m ∈ σ.2, full m = [m] ∧ (∀ pre s, σ.1 = some (pre, s) → cls m ≠ 0)
  last : ∀ pre s m mid, σ = (some (pre, s), m :: mid) → ∃ q z, p = q ++ [z] ∧ cls z ≠ 0 ∧ ∀ y ∈ m :: mid, cls y ≤ cls z
  rise : ∀ pre s m mid, σ = (some (pre, s), m :: mid) → ∀ y ∈ mid, cls y ≤ cls m

theorem full_id : ∀ (l : List Nat), (∀ y ∈ l, full y = [y]) → l.flatMap full = l := by
  intro l
  induction l with
  | nil => intro _; rfl
  | cons a l ih =>
    intro h
    rw [List.flatMap_cons, h a (by simp), ih (fun y hy => h y (by simp [hy]))]; rfl

include G in
theorem inv_step {p : List Nat} {σ : St} (h : Inv cls full p σ) {c : Nat} (hc : full c = [c]) (ho : isOrd cls (p ++ [c])) : Inv cls full (p ++ [c]) (step cls two σ c) := by
  rcases step_cases cls two σ c with e | ⟨pre, s, mid, x, rfl, hb, h2, e⟩
  · rw [e]
    have hbk : ord cls ((back (keep cls σ c)).reverse.flatMap full) = p ++ [c] := by
      rw [back_keep, List.reverse_cons, List.flatMap_append, List.flatMap_cons, hc]
      show ord cls (_ ++ [c]) = _
      rw [← ord_ord_app, h.back, ord_stay cls ho]
    rcases σ with ⟨_ | ⟨pre, s⟩, mid⟩
    · by_cases h0 : cls c = 0
      · have e2 : keep cls (none, mid) c = (some (mid, c), []) := by unfold keep; simp [h0]
        rw [e2] at hbk ⊢
        exact ⟨hbk, fun m hm => by simp at hm, fun _ _ _ _ he => by simp at he, fun _ _ _ _ he => by simp at he⟩
      · have e2 : keep cls (none, mid) c = (none, c :: mid) := by unfold keep; simp [h0]
        rw [e2] at hbk ⊢
        refine ⟨hbk, fun m hm => ⟨?_, fun _ _ he => by simp at he⟩, fun _ _ _ _ he => by simp at he, fun _ _ _ _ he => by simp at he⟩
        rcases List.mem_cons.1 hm with rfl | hm
        · exact hc
        · exact (h.mids m hm).1
    · by_cases h0 : cls c = 0
      · have e2 : keep cls (some (pre, s), mid) c = (some (mid ++ s :: pre, c), []) := by unfold keep; simp [h0]
        rw [e2] at hbk ⊢
        exact ⟨hbk, fun m hm => by simp at hm, fun _ _ _ _ he => by simp at he, fun _ _ _ _ he => by simp at he⟩
      · have e2 : keep cls (some (pre, s), mid) c = (some (pre, s), c :: mid) := by unfold keep; simp [h0]
        rw [e2] at hbk ⊢
        have hle : ∀ y ∈ mid, cls y ≤ cls c := by
          cases mid with
          | nil => intro y hy; simp at hy
          | cons m mid =>
            obtain ⟨q, z, rfl, hz, hy⟩ := h.last pre s m mid rfl
            have := isOrd_last cls (a := q) (x := z) (y := c) (by rw [List.append_assoc] at ho; exact ho)
            intro y hy'
            have := hy y hy'
            omega
        refine ⟨hbk, fun m hm => ?_, fun pre' s' m' mid' he => ?_, fun pre' s' m' mid' he => ?_⟩
        · rcases List.mem_cons.1 hm with rfl | hm
          · exact ⟨hc, fun _ _ _ => h0⟩
          · exact ⟨(h.mids m hm).1, fun pre' s' _ => (h.mids m hm).2 pre s rfl⟩
        · simp only [Prod.mk.injEq, Option.some.injEq, List.cons.injEq] at he
          obtain ⟨⟨rfl, rfl⟩, rfl, rfl⟩ := he
          exact ⟨p, c, rfl, h0, fun y hy => by
            rcases List.mem_cons.1 hy with rfl | hy
            · exact Nat.le_refl _
            · exact hle y hy⟩
        · simp only [Prod.mk.injEq, Option.some.injEq, List.cons.injEq] at he
          obtain ⟨⟨rfl, rfl⟩, rfl, rfl⟩ := he
          exact hle
  · rw [e]
    have hp := G.pair s c x h2
    rw [hc] at hp
    have hlow : ∀ m ∈ mid, cls m ≠ 0 ∧ cls m < cls c := by
      cases mid with
      | nil => intro y hy; simp at hy
      | cons k mid =>
        have hk : ¬ cls k = 0 ∧ ¬ cls c ≤ cls k := by simpa [blocked] using hb
        intro y hy
        refine ⟨(h.mids y hy).2 pre s rfl, ?_⟩
        rcases List.mem_cons.1 hy with rfl | hy
        · omega
        · have := h.rise pre s k mid rfl y hy
          omega
    have hmid : mid.reverse.flatMap full = mid.reverse := full_id _ (fun y hy => (h.mids y (by simpa using hy)).1)
    refine ⟨?_, fun m hm => ⟨(h.mids m hm).1, fun _ _ _ => (h.mids m hm).2 pre s rfl⟩, fun pre' s' m' mid' he => ?_, fun pre' s' m' mid' he => ?_⟩
    · have hb0 := h.back
      show ord cls ((mid ++ x :: pre).reverse.flatMap full) = _
      have hb1 : ord cls ((mid ++ s :: pre).reverse.flatMap full) = p := hb0
      rw [List.reverse_append, List.reverse_cons, List.flatMap_append, List.flatMap_append, hmid] at hb1 ⊢
      rw [List.flatMap_cons, List.flatMap_nil, List.append_nil] at hb1 ⊢
      rw [hp]
      have e1 := ord_past cls c mid.reverse (pre.reverse.flatMap full ++ full s) [] (fun m hm => hlow m (by simpa using hm))
      rw [List.append_nil] at e1
      have e2 : pre.reverse.flatMap full ++ (full s ++ [c]) ++ mid.reverse = pre.reverse.flatMap full ++ full s ++ c :: mid.reverse := by simp
      rw [e2, e1, ← List.append_assoc, ← ord_ord_app, hb1, ord_stay cls ho]
    · simp only [Prod.mk.injEq, Option.some.injEq] at he
      obtain ⟨⟨rfl, rfl⟩, rfl⟩ := he
      exact ⟨p, c, rfl, by have := hlow m' (by simp); omega, fun y hy => Nat.le_of_lt (hlow y hy).2⟩
    · simp only [Prod.mk.injEq, Option.some.injEq] at he
      obtain ⟨⟨rfl, rfl⟩, rfl⟩ := he
      exact h.rise _ _ m' mid' rfl

include G in
theorem inv_run : ∀ (l p : List Nat) (σ : St), Inv cls full p σ → (∀ y ∈ l, full y = [y]) → isOrd cls (p ++ l) → Inv cls full (p ++ l) (run cls two l σ) := by
  intro l
  induction l with
  | nil => intro p σ h _ _; rw [List.append_nil]; exact h
  | cons c l ih =>
    intro p σ h hw ho
    have e : p ++ c :: l = p ++ [c] ++ l := by simp
    rw [e] at ho ⊢
    exact ih (p ++ [c]) _ (inv_step cls two G h (hw c (by simp)) (isOrd_app_left cls ho)) (fun y hy => hw y (by simp [hy])) ho

theorem inv_nil : Inv cls full [] (none, []) :=
  ⟨rfl, fun m hm => by simp at hm, fun _ _ _ _ he => by simp at he, fun _ _ _ _ he => by simp at he⟩

include G in
/-- What is composed of what is whole and in order is taken apart, and put into order, to it again. -/
theorem comp_back {d : List Nat} (hw : ∀ y ∈ d, full y = [y]) (ho : isOrd cls d) : ord cls ((comp cls two d).flatMap full) = d := by
  have h := (inv_run cls two G d [] (none, []) (inv_nil cls) hw (by simpa using ho)).back
  simpa [comp] using h

/-- It is not longer. -/
theorem back_len (σ : St) (c : Nat) : (back (step cls two σ c)).length ≤ (back σ).length + 1 := by
  rcases step_cases cls two σ c with e | ⟨pre, s, mid, x, rfl, _, _, e⟩
  · rw [e, back_keep, List.length_cons]; exact Nat.le_refl _
  · rw [e]; simp [back]
theorem run_len : ∀ (l : List Nat) (σ : St), (back (run cls two l σ)).length ≤ (back σ).length + l.length := by
  intro l
  induction l with
  | nil => intro σ; exact Nat.le_refl _
  | cons c l ih =>
    intro σ
    have h1 := ih (step cls two σ c)
    have h2 := back_len cls two σ c
    show (back (run cls two l (step cls two σ c))).length ≤ _
    rw [List.length_cons]
    omega
theorem comp_len (l : List Nat) : (comp cls two l).length ≤ l.length := by
  unfold comp
  rw [List.length_reverse]
  have := run_len cls two l (none, [])
  simpa [back] using this

/-- What is composed once more stays. -/
structure Stab (σ : St) : Prop where
  same : run cls two (back σ).reverse (none, []) = σ
  pre : ∀ pre s mid, σ = (some (pre, s), mid) → cls s = 0 ∧ ∀ y, cls y = 0 → full y ≠ [y] → run cls two (pre.reverse ++ [y]) (none, []) = (some (pre, y), [])

include G in
theorem two_none {s y : Nat} (h : full y ≠ [y]) : two s y = none := by
  cases e : two s y with
  | none => rfl
  | some x => exact absurd (G.second s y x e) h
include G in
theorem comp_not {a b x : Nat} (h : two a b = some x) : full x ≠ [x] := by
  intro e
  have h1 := G.pair a b x h
  rw [e] at h1
  have h2 := G.some_ a
  have h3 := G.some_ b
  have : ([x] : List Nat).length = (full a ++ full b).length := by rw [h1]
  rw [List.length_append] at this
  have h4 : 0 < (full a).length := List.length_pos_iff.2 h2
  have h5 : 0 < (full b).length := List.length_pos_iff.2 h3
  simp at this
  omega
include G in
theorem keep_new (σ : St) {y : Nat} (h : full y ≠ [y]) : step cls two σ y = keep cls σ y := by
  rcases step_cases cls two σ y with e | ⟨pre, s, mid, x, rfl, _, h2, _⟩
  · exact e
  · rw [two_none cls two G h] at h2; cases h2

include G in
theorem stab_step {p : List Nat} {σ : St} (hI : Inv cls full p σ) (h : Stab cls two (full := full) σ) {c : Nat} (hc : full c = [c]) : Stab cls two (full := full) (step cls two σ c) := by
  rcases step_cases cls two σ c with e | ⟨pre, s, mid, x, rfl, hb, h2, e⟩
  · rw [e]
    have hs : run cls two (back (keep cls σ c)).reverse (none, []) = keep cls σ c := by
      rw [back_keep, List.reverse_cons, run_snoc, h.same, e]
    refine ⟨hs, ?_⟩
    rcases σ with ⟨_ | ⟨pre, s⟩, mid⟩
    · by_cases h0 : cls c = 0
      · have e2 : keep cls (none, mid) c = (some (mid, c), []) := by unfold keep; simp [h0]
        rw [e2]
        intro pre' s' mid' he
        simp only [Prod.mk.injEq, Option.some.injEq] at he
        obtain ⟨⟨rfl, rfl⟩, rfl⟩ := he
        refine ⟨h0, fun y hy0 hy => ?_⟩
        have hm : run cls two mid.reverse (none, []) = (none, mid) := h.same
        rw [run_snoc, hm, keep_new cls two G _ hy]
        unfold keep; simp [hy0]
      · have e2 : keep cls (none, mid) c = (none, c :: mid) := by unfold keep; simp [h0]
        rw [e2]
        intro pre' s' mid' he
        simp at he
    · by_cases h0 : cls c = 0
      · have e2 : keep cls (some (pre, s), mid) c = (some (mid ++ s :: pre, c), []) := by unfold keep; simp [h0]
        rw [e2]
        intro pre' s' mid' he
        simp only [Prod.mk.injEq, Option.some.injEq] at he
        obtain ⟨⟨rfl, rfl⟩, rfl⟩ := he
        refine ⟨h0, fun y hy0 hy => ?_⟩
        have hm : run cls two (mid ++ s :: pre).reverse (none, []) = (some (pre, s), mid) := h.same
        rw [run_snoc, hm, keep_new cls two G _ hy]
        unfold keep; simp [hy0]
      · have e2 : keep cls (some (pre, s), mid) c = (some (pre, s), c :: mid) := by unfold keep; simp [h0]
        rw [e2]
        intro pre' s' mid' he
        simp only [Prod.mk.injEq, Option.some.injEq] at he
        obtain ⟨⟨rfl, rfl⟩, rfl⟩ := he
        exact h.pre pre s mid rfl
  · rw [e]
    have hx0 := G.start s c x h2
    have hxn := comp_not cls two G h2
    obtain ⟨hs0, hpre⟩ := h.pre pre s mid rfl
    have hp := G.pair s c x h2
    rw [hc] at hp
    have hlow : ∀ m ∈ mid, cls m ≠ 0 ∧ cls m < cls c := by
      cases mid with
      | nil => intro y hy; simp at hy
      | cons k mid =>
        have hk : ¬ cls k = 0 ∧ ¬ cls c ≤ cls k := by simpa [blocked] using hb
        intro y hy
        refine ⟨(hI.mids y hy).2 pre s rfl, ?_⟩
        rcases List.mem_cons.1 hy with rfl | hy
        · omega
        · have := hI.rise pre s k mid rfl y hy
          omega
    refine ⟨?_, fun pre' s' mid' he => ?_⟩
    · show run cls two (mid ++ x :: pre).reverse (none, []) = (some (pre, x), mid)
      rw [List.reverse_append, List.reverse_cons, run_app, hpre x hx0 hxn]
      have hgo : ∀ (l acc : List Nat), (∀ m ∈ l, cls m ≠ 0 ∧ cls m < cls c ∧ full m = [m]) → run cls two l (some (pre, x), acc) = (some (pre, x), l.reverse ++ acc) := by
        intro l
        induction l with
        | nil => intro acc _; rfl
        | cons m l ih =>
          intro acc hl
          obtain ⟨g1, g2, g3⟩ := hl m (by simp)
          have hstep : step cls two (some (pre, x), acc) m = (some (pre, x), m :: acc) := by
            have hk : keep cls (some (pre, x), acc) m = (some (pre, x), m :: acc) := by unfold keep; simp [g1]
            rcases step_cases cls two (some (pre, x), acc) m with e | ⟨pre', s', mid', z, he, _, h3, _⟩
            · rw [e, hk]
            · exfalso
              simp only [Prod.mk.injEq, Option.some.injEq] at he
              obtain ⟨⟨rfl, rfl⟩, rfl⟩ := he
              have h4 := G.pair x m z h3
              rw [g3, hp, List.append_assoc] at h4
              have h5 := G.ord z
              rw [h4] at h5
              exact isOrd_last cls (a := full s) (x := c) (y := m) h5 ⟨g1, g2⟩
          show run cls two l (step cls two (some (pre, x), acc) m) = _
          rw [hstep, ih (m :: acc) (fun y hy => hl y (by simp [hy])), List.reverse_cons, List.append_assoc]
          rfl
      rw [hgo mid.reverse [] (fun m hm => ⟨(hlow m (by simpa using hm)).1, (hlow m (by simpa using hm)).2, (hI.mids m (by simpa using hm)).1⟩), List.reverse_reverse, List.append_nil]
    · simp only [Prod.mk.injEq, Option.some.injEq] at he
      obtain ⟨⟨rfl, rfl⟩, rfl⟩ := he
      exact ⟨hx0, hpre⟩

include G in
theorem stab_run : ∀ (l p : List Nat) (σ : St), Inv cls full p σ → Stab cls two (full := full) σ → (∀ y ∈ l, full y = [y]) → isOrd cls (p ++ l) → Stab cls two (full := full) (run cls two l σ) := by
  intro l
  induction l with
  | nil => intro p σ _ h _ _; exact h
  | cons c l ih =>
    intro p σ h hS hw ho
    have e : p ++ c :: l = p ++ [c] ++ l := by simp
    rw [e] at ho
    have h1 := isOrd_app_left cls ho
    exact ih (p ++ [c]) _ (inv_step cls two G h (hw c (by simp)) h1) (stab_step cls two G h hS (hw c (by simp))) (fun y hy => hw y (by simp [hy])) ho

include G in
/-- What was so composed stays as it is when it is composed again. -/
theorem comp_again {d : List Nat} (hw : ∀ y ∈ d, full y = [y]) (ho : isOrd cls d) : comp cls two (comp cls two d) = comp cls two d := by
  have h := stab_run cls two G d [] (none, []) (inv_nil cls) ⟨rfl, fun _ _ _ he => by simp at he⟩ hw (by simpa using ho)
  have h2 := h.same
  unfold comp
  rw [h2]

/-- Where a number that starts begins the second of two lists both can be composed alone. -/
theorem keep_front (q : List Nat) (pre : List Nat) (s : Nat) (mid : List Nat) (c : Nat) : keep cls (some (pre ++ q, s), mid) c = (match keep cls (some (pre, s), mid) c with
    | (some (p, t), m) => (some (p ++ q, t), m)
    | σ => σ) := by
  unfold keep
  by_cases h : cls c = 0 <;> simp [h]
theorem run_front (q : List Nat) : ∀ (l pre : List Nat) (s : Nat) (mid : List Nat), ∃ p t m, run cls two l (some (pre, s), mid) = (some (p, t), m) ∧ run cls two l (some (pre ++ q, s), mid) = (some (p ++ q, t), m) := by
  intro l
  induction l with
  | nil => intro pre s mid; exact ⟨pre, s, mid, rfl, rfl⟩
  | cons c l ih =>
    intro pre s mid
    have key : ∃ p t m, step cls two (some (pre, s), mid) c = (some (p, t), m) ∧ step cls two (some (pre ++ q, s), mid) c = (some (p ++ q, t), m) := by
      have hk : ∃ p t m, keep cls (some (pre, s), mid) c = (some (p, t), m) ∧ keep cls (some (pre ++ q, s), mid) c = (some (p ++ q, t), m) := by
        unfold keep
        by_cases h : cls c = 0
        · exact ⟨mid ++ s :: pre, c, [], by simp [h], by simp [h]⟩
        · exact ⟨pre, s, c :: mid, by simp [h], by simp [h]⟩
      unfold step
      cases hb : blocked cls mid c with
      | true => simpa [hb] using hk
      | false =>
        cases h2 : two s c with
        | none => simpa [hb, h2] using hk
        | some x => exact ⟨pre, x, mid, by simp [hb, h2], by simp [hb, h2]⟩
    obtain ⟨p, t, m, e1, e2⟩ := key
    obtain ⟨p', t', m', e3, e4⟩ := ih p t m
    exact ⟨p', t', m', by show run cls two l (step cls two _ c) = _; rw [e1]; exact e3, by show run cls two l (step cls two _ c) = _; rw [e2]; exact e4⟩
theorem comp_parts (a : List Nat) (z : Nat) (b : List Nat) (h0 : cls z = 0) (h2 : ∀ s, two s z = none) : comp cls two (a ++ z :: b) = comp cls two a ++ comp cls two (z :: b) := by
  unfold comp
  rw [run_app]
  generalize run cls two a (none, []) = σ
  have h1 : run cls two (z :: b) σ = run cls two b (some (back σ, z), []) := by
    show run cls two b (step cls two σ z) = _
    congr 1
    rcases step_cases cls two σ z with e | ⟨pre, s, mid, x, rfl, _, h3, _⟩
    · rw [e]
      rcases σ with ⟨_ | ⟨pre, s⟩, mid⟩ <;> unfold keep back <;> simp [h0]
    · rw [h2] at h3; cases h3
  have h4 : run cls two (z :: b) (none, []) = run cls two b (some ([], z), []) := by
    show run cls two b (step cls two (none, []) z) = _
    congr 1
    show keep cls (none, []) z = _
    unfold keep; simp [h0]
  obtain ⟨p, t, m, e1, e2⟩ := run_front cls two (back σ) b [] z []
  rw [List.nil_append] at e2
  rw [h1, h4, e1, e2]
  unfold back
  simp
/-- Which characters a full decomposition is composed to again. -/
theorem back_from (P : Nat → Prop) (hP : ∀ s c x, two s c = some x → P x) : ∀ (l : List Nat) (σ : St), (∀ y ∈ l, P y) → (∀ y ∈ back σ, P y) → ∀ y ∈ back (run cls two l σ), P y := by
  intro l
  induction l with
  | nil => exact fun _ _ h => h
  | cons c l ih =>
    intro σ hl hσ
    refine ih (step cls two σ c) (fun y hy => hl y (by simp [hy])) ?_
    rcases step_cases cls two σ c with e | ⟨pre, s, mid, x, rfl, _, h2, e⟩
    · rw [e, back_keep]
      intro y hy
      rcases List.mem_cons.1 hy with rfl | hy
      · exact hl y (by simp)
      · exact hσ y hy
    · rw [e]
      intro y hy
      have hy' : y ∈ mid ++ x :: pre := hy
      rw [List.mem_append, List.mem_cons] at hy'
      rcases hy' with h | rfl | h
      · exact hσ y (by show y ∈ mid ++ s :: pre; simp [h])
      · exact hP s c y h2
      · exact hσ y (by show y ∈ mid ++ s :: pre; simp [h])
/-- A character that no pair makes, and that is decomposed, isn't what its full decomposition is composed to. -/
theorem comp_full_no {x : Nat} {l : List Nat} (h1 : ∀ y ∈ l, y ≠ x) (h2 : ∀ a b, two a b ≠ some x) : comp cls two l ≠ [x] := by
  intro e
  have h := back_from cls two (· ≠ x) (fun s c z hz he => h2 s c (he ▸ hz)) l (none, []) h1 (fun y hy => by simp [back] at hy)
  unfold comp at e
  have e2 : back (run cls two l (none, [])) = [x] := by rw [← List.reverse_reverse (back _), e]; rfl
  exact h x (by rw [e2]; simp) rfl
theorem comp_one (x : Nat) : comp cls two [x] = [x] := by
  show (back (keep cls (none, []) x)).reverse = [x]
  rw [back_keep]; rfl
theorem none_marks : ∀ (l : List Nat) (σ : St), (σ.1 = none → ∀ y ∈ σ.2, cls y ≠ 0) → (run cls two l σ).1 = none → ∀ y ∈ (run cls two l σ).2, cls y ≠ 0 := by
  intro l
  induction l with
  | nil => exact fun _ h => h
  | cons c l ih =>
    intro σ h
    refine ih (step cls two σ c) ?_
    rcases step_cases cls two σ c with e | ⟨pre, s, mid, x, rfl, _, _, e⟩
    · rw [e]
      rcases σ with ⟨_ | ⟨pre, s⟩, mid⟩
      · unfold keep
        by_cases h0 : cls c = 0
        · simp [h0]
        · simp only [if_neg h0]
          intro _ y hy
          rcases List.mem_cons.1 hy with rfl | hy
          · exact h0
          · exact h rfl y hy
      · unfold keep
        by_cases h0 : cls c = 0 <;> simp [h0]
    · rw [e]; simp
theorem comp_two {l : List Nat} {a b x : Nat} (h : comp cls two l = [a]) (ha : cls a = 0) (h2 : two a b = some x) : comp cls two (l ++ [b]) = [x] := by
  have hm := none_marks cls two l (none, []) (fun _ y hy => by simp at hy)
  unfold comp at h ⊢
  rw [run_snoc]
  have e : back (run cls two l (none, [])) = [a] := by rw [← List.reverse_reverse (back _), h]; rfl
  generalize run cls two l (none, []) = σ at e hm ⊢
  rcases σ with ⟨_ | ⟨pre, s⟩, mid⟩
  · have e1 : mid = [a] := e
    exact absurd ha (hm rfl a (by rw [e1]; simp))
  · have e1 : mid ++ s :: pre = [a] := e
    have e2 : mid = [] ∧ s = a ∧ pre = [] := by
      cases mid with
      | nil => simpa using e1
      | cons m mid => simp at e1
    obtain ⟨rfl, rfl, rfl⟩ := e2
    unfold step blocked
    simp [h2, back]

end Go.Proofs.YtipemmjbgegmfaaGreatDoor.Cmpr

/- The normal forms, plain. -/
namespace Go.Proofs.YtipemmjbgegmfaaGreatDoor.Nrmr
open Go.Proofs.YtipemmjbgegmfaaGreatDoor.Ordr Go.Proofs.YtipemmjbgegmfaaGreatDoor.Cmpr
variable (cls : Nat → Nat) (two : Nat → Nat → Option Nat) (full : Nat → List Nat)

def nfd (l : List Nat) : List Nat := ord cls (l.flatMap full)
def nfc (l : List Nat) : List Nat := comp cls two (nfd cls full l)
variable {full} (G : Cmpr.Good cls two full)
include G

theorem nfd_whole (l : List Nat) : ∀ y ∈ nfd cls full l, full y = [y] := by
  intro y hy
  have h := (ord_perm cls (l.flatMap full)).mem_iff.1 hy
  obtain ⟨x, _, hx⟩ := List.mem_flatMap.1 h
  exact G.whole x y hx
omit G in
theorem nfd_of_whole {l : List Nat} (hw : ∀ y ∈ l, full y = [y]) : nfd cls full l = ord cls l := by
  unfold nfd; rw [full_id l hw]
theorem nfd_nfd (l : List Nat) : nfd cls full (nfd cls full l) = nfd cls full l := by
  rw [nfd_of_whole cls (nfd_whole cls two G l)]
  exact ord_ord cls _
theorem nfd_nfc (l : List Nat) : nfd cls full (nfc cls two full l) = nfd cls full l :=
  comp_back cls two G (nfd_whole cls two G l) (ord_is cls _)
theorem nfc_nfd (l : List Nat) : nfc cls two full (nfd cls full l) = nfc cls two full l := by
  unfold nfc; rw [nfd_nfd cls two G]
theorem nfc_nfc (l : List Nat) : nfc cls two full (nfc cls two full l) = nfc cls two full l := by
  show comp cls two (nfd cls full (nfc cls two full l)) = comp cls two (nfd cls full l)
  rw [nfd_nfc cls two G]
theorem comp_nfc (l : List Nat) : comp cls two (nfc cls two full l) = nfc cls two full l :=
  comp_again cls two G (nfd_whole cls two G l) (ord_is cls _)
theorem nfc_eq (a b : List Nat) : nfc cls two full a = nfc cls two full b ↔ nfd cls full a = nfd cls full b := by
  constructor
  · intro h
    have := congrArg (nfd cls full) h
    rwa [nfd_nfc cls two G, nfd_nfc cls two G] at this
  · intro h
    unfold nfc; rw [h]

omit G in
/-- Two marks of unlike classes, each whole, may change places. -/
theorem nfd_swap (a b : List Nat) {x y : Nat} (hx : full x = [x]) (hy : full y = [y]) (h1 : cls x ≠ 0) (h2 : cls y ≠ 0) (h : cls x ≠ cls y) : nfd cls full (a ++ x :: y :: b) = nfd cls full (a ++ y :: x :: b) := by
  unfold nfd
  simp only [List.flatMap_append, List.flatMap_cons, hx, hy]
  exact ord_swap cls (a.flatMap full) (b.flatMap full) h1 h2 h

omit G in
/-- What is cut where a number starts has the forms of both parts. -/
theorem nfd_parts (a : List Nat) (z : Nat) (b : List Nat) (h : ∀ f t, full z = f :: t → cls f = 0) (hne : full z ≠ []) : nfd cls full (a ++ z :: b) = nfd cls full a ++ nfd cls full (z :: b) := by
  unfold nfd
  rw [List.flatMap_append]
  refine ord_parts cls _ fun f t he => ?_
  rw [List.flatMap_cons] at he
  cases hz : full z with
  | nil => exact absurd hz hne
  | cons g u =>
    rw [hz] at he
    injection he with e1 _
    subst e1
    exact h g u hz
omit G in
theorem ord_head {f : Nat} (t : List Nat) (h : cls f = 0) : ∃ u, ord cls (f :: t) = f :: u := by
  unfold ord
  show ∃ u, (kept cls t [f]).reverse = _
  have key : ∀ (t r : List Nat), ∃ v, kept cls t (r ++ [f]) = v ++ [f] := by
    intro t
    induction t with
    | nil => exact fun r => ⟨r, rfl⟩
    | cons c t ih =>
      intro r
      obtain ⟨v, hv⟩ := ins_last cls h c r
      show ∃ v, kept cls t (ins cls c (r ++ [f])) = _
      rw [hv]
      exact ih v
  obtain ⟨v, hv⟩ := key t []
  rw [List.nil_append] at hv
  exact ⟨v.reverse, by rw [hv, List.reverse_append]; rfl⟩
theorem nfc_parts (a : List Nat) (z : Nat) (b : List Nat) (h : ∀ f t, full z = f :: t → cls f = 0 ∧ ∀ s, two s f = none) : nfc cls two full (a ++ z :: b) = nfc cls two full a ++ nfc cls two full (z :: b) := by
  unfold nfc
  rw [nfd_parts cls a z b (fun f t e => (h f t e).1) (G.some_ z)]
  cases hz : full z with
  | nil => exact absurd hz (G.some_ z)
  | cons f t =>
    obtain ⟨h1, h2⟩ := h f t hz
    have e : ∃ u, nfd cls full (z :: b) = f :: u := by
      unfold nfd
      rw [List.flatMap_cons, hz]
      exact ord_head cls _ h1
    obtain ⟨u, hu⟩ := e
    rw [hu]
    exact comp_parts cls two _ f u h1 h2

end Go.Proofs.YtipemmjbgegmfaaGreatDoor.Nrmr

/- Decomposed again and again: the plain lists. -/
namespace Go.Proofs.YtipemmjbgegmfaaGreatDoor
open Go.RowKit

noncomputable def stepL (x : Nat) : List Nat := if decOk x = true then (if decB x = 0 then [decA x] else [decA x, decB x]) else [x]
noncomputable def flat (l : List Nat) : List Nat := l.flatMap stepL
/-- In so many steps a character comes to one that is not decomposed. -/
def Ends : Nat → Nat → Prop
  | 0, x => rowOf x = 0
  | n + 1, x => rowOf x ≠ 0 → Ends n (decA x)
theorem ends_of {x : Nat} (h : rowOf x = 0) : ∀ n, Ends n x
  | 0 => h
  | _ + 1 => fun h' => absurd h h'
theorem ends_three (c : Nat) : Ends 3 c := fun h => fun h1 => fun h2 => (deep h).2 h1 h2
/-- Behind i rounds: one that is still decomposed may stand first, none behind it. -/
def Inv (i : Nat) (l : List Nat) : Prop := ∃ x r, l = x :: r ∧ Ends (3 - i) x ∧ (∀ y, y ∈ r → rowOf y = 0) ∧ r.length ≤ i
theorem stepL_id {x : Nat} (h : rowOf x = 0) : stepL x = [x] := by
  unfold stepL decOk
  rw [h, if_neg (by decide)]
theorem flat_id : ∀ r : List Nat, (∀ y, y ∈ r → rowOf y = 0) → flat r = r
  | [], _ => rfl
  | y :: r, h => by
    have h1 := stepL_id (h y (List.mem_cons_self ..))
    have h2 := flat_id r (fun z hz => h z (List.mem_cons_of_mem _ hz))
    unfold flat at *
    rw [List.flatMap_cons, h1, h2]; rfl
theorem inv_start (c : Nat) : Inv 0 [c] := ⟨c, [], rfl, ends_three c, fun y h => absurd h (by simp), by simp⟩
theorem inv_step {i : Nat} {l : List Nat} (hi : i < 3) (h : Inv i l) : Inv (i + 1) (flat l) := by
  obtain ⟨x, r, rfl, h1, h2, h3⟩ := h
  have hr := flat_id r h2
  have hf : flat (x :: r) = stepL x ++ r := by
    unfold flat at *
    rw [List.flatMap_cons, hr]
  rw [hf]
  by_cases hx : rowOf x = 0
  · rw [stepL_id hx]
    clear hf hr h1
    exact ⟨x, r, List.singleton_append .., ends_of hx _, h2, by omega⟩
  · have hE : Ends (3 - (i + 1)) (decA x) := by
      obtain ⟨k, hk⟩ : ∃ k, 3 - i = k + 1 := ⟨3 - i - 1, by omega⟩
      rw [hk] at h1
      have := h1 hx
      rwa [show 3 - (i + 1) = k by omega]
    have hok : decOk x = true := by unfold decOk; exact decide_eq_true hx
    unfold stepL
    rw [if_pos hok]
    split
    · exact ⟨decA x, r, List.singleton_append .., hE, h2, by omega⟩
    · refine ⟨decA x, decB x :: r, List.cons_append .. |>.trans (congrArg _ (List.singleton_append ..)), hE, fun y hy => ?_, by rw [List.length_cons]; omega⟩
      rcases List.mem_cons.1 hy with hy | hy
      · rw [hy]; exact (deep hx).1
      · exact h2 y hy
theorem inv_end {l : List Nat} (h : Inv 3 l) : (∀ y, y ∈ l → rowOf y = 0) ∧ 1 ≤ l.length ∧ l.length ≤ 4 := by
  obtain ⟨x, r, rfl, h1, h2, h3⟩ := h
  refine ⟨fun y hy => ?_, by simp, by rw [List.length_cons]; omega⟩
  rcases List.mem_cons.1 hy with rfl | hy
  · exact h1
  · exact h2 y hy
/-- One more of the list. -/
theorem flat_snoc {l : List Nat} {k : Nat} (hk : k < l.length) : flat (l.take (k + 1)) = flat (l.take k) ++ stepL l[k] := by
  unfold flat
  rw [List.take_succ_eq_append_getElem hk, List.flatMap_append]
  simp
theorem flat_len (l : List Nat) : (flat l).length ≤ 2 * l.length := by
  induction l with
  | nil => simp [flat]
  | cons x r ih =>
    unfold flat at *
    rw [List.flatMap_cons, List.length_append, List.length_cons]
    have : (stepL x).length ≤ 2 := by unfold stepL; repeat' split
                                      all_goals simp
    omega
theorem inv_len {i : Nat} {l : List Nat} (h : Inv i l) : 1 ≤ l.length ∧ l.length ≤ i + 1 := by
  obtain ⟨x, r, rfl, _, _, h3⟩ := h
  rw [List.length_cons]; omega

end Go.Proofs.YtipemmjbgegmfaaGreatDoor

/- Syllables, plain: what is put is split so, and the other way round; one behind another; what is joined. -/
namespace Go.Proofs.YtipemmjbgegmfaaGreatDoor

theorem spl_L {c : Nat} (h : isS c = true) : splL c = 4352 + (c - 44032) / 28 / 21 := by unfold splL; rw [if_pos h]
theorem spl_V {c : Nat} (h : isS c = true) : splV c = 4449 + (c - 44032) / 28 % 21 := by unfold splV; rw [if_pos h]
theorem spl_T {c : Nat} (h : isS c = true) : splT c = if (c - 44032) % 28 = 0 then 0 else 4519 + (c - 44032) % 28 := by unfold splT; rw [if_pos h]
theorem spl_ok {c : Nat} (h : isS c = true) : putOk (splL c) (splV c) (splT c) = true := by
  rw [putOk_iff, spl_L h, spl_V h, spl_T h]
  have := (isS_iff c).1 h
  split <;> omega
theorem spl_ok0 {c : Nat} (h : isS c = true) : putOk (splL c) (splV c) 0 = true := by
  rw [putOk_iff, spl_L h, spl_V h]
  have := (isS_iff c).1 h
  omega
theorem put_val {l v t : Nat} (h : putOk l v t = true) : putC l v t = 44032 + (21 * (l - 4352) + (v - 4449)) * 28 + (if t = 0 then 0 else t - 4519) := by unfold putC; rw [if_pos h]
theorem put_bad {l v t : Nat} (h : putOk l v t = false) : putC l v t = 0 := by unfold putC; rw [if_neg (by rw [h]; decide)]
theorem putE_yes {l v t : Nat} (h : putOk l v t = true) : putE l v t = 0 := by unfold putE; rw [if_pos h]
theorem putE_no {l v t : Nat} (h : putOk l v t = false) : putE l v t = 2 := by unfold putE; rw [if_neg (by rw [h]; decide)]
theorem put_spl {c : Nat} (h : isS c = true) : putC (splL c) (splV c) (splT c) = c := by
  rw [put_val (spl_ok h), spl_L h, spl_V h, spl_T h]
  have := (isS_iff c).1 h
  by_cases h0 : (c - 44032) % 28 = 0
  · rw [if_pos h0, if_pos rfl]; omega
  · rw [if_neg h0, if_neg (by omega)]; omega
theorem isS_put {l v t : Nat} (h : putOk l v t = true) : isS (putC l v t) = true := by
  rw [isS_iff, put_val h]
  have := (putOk_iff l v t).1 h
  split <;> omega
theorem mod_put {l v t : Nat} (h : putOk l v t = true) : (putC l v t - 44032) % 28 = (if t = 0 then 0 else t - 4519) ∧ (putC l v t - 44032) / 28 = 21 * (l - 4352) + (v - 4449) := by
  rw [put_val h]
  have := (putOk_iff l v t).1 h
  split <;> omega
theorem splL_put {l v t : Nat} (h : putOk l v t = true) : splL (putC l v t) = l := by
  have := (putOk_iff l v t).1 h
  rw [spl_L (isS_put h), (mod_put h).2]
  omega
theorem splV_put {l v t : Nat} (h : putOk l v t = true) : splV (putC l v t) = v := by
  have := (putOk_iff l v t).1 h
  rw [spl_V (isS_put h), (mod_put h).2]
  omega
theorem splT_put {l v t : Nat} (h : putOk l v t = true) : splT (putC l v t) = t := by
  have := (putOk_iff l v t).1 h
  rw [spl_T (isS_put h), (mod_put h).1]
  by_cases h0 : t = 0
  · rw [if_pos h0, if_pos rfl, h0]
  · rw [if_neg h0, if_neg (by omega)]; omega
theorem putOk_0 {l v t : Nat} (h : putOk l v t = true) : putOk l v 0 = true := by
  rw [putOk_iff] at h ⊢
  exact ⟨h.1, h.2.1, .inl rfl⟩
theorem putOk_lv {l v t : Nat} (h : putOk l v t = true) : lv l v = true := by
  rw [putOk_iff] at h
  rw [lv_iff]
  exact ⟨h.1, h.2.1⟩
theorem join_lv {a b : Nat} (h : lv a b = true) : joinC a b = putC a b 0 ∧ joinOk a b = true := by
  unfold joinC joinOk
  rw [if_pos h, h]
  exact ⟨rfl, rfl⟩
theorem lv_put {a b : Nat} (h : lv a b = true) : putOk a b 0 = true := by
  rw [putOk_iff]
  rw [lv_iff] at h
  exact ⟨h.1, h.2, .inl rfl⟩
theorem not_lv {a b : Nat} (h : isS a = true) : ¬ lv a b = true := by
  rw [lv_iff]
  rw [isS_iff] at h
  omega
theorem join_lvt {a b : Nat} (h : lvt a b = true) : joinC a b = putC (splL a) (splV a) b ∧ joinOk a b = true := by
  have hs : isS a = true := (isS_iff a).2 ((lvt_iff a b).1 h).1
  unfold joinC joinOk
  rw [if_neg (not_lv hs), if_pos h, h]
  exact ⟨rfl, by simp⟩
theorem lvt_put {a b : Nat} (h : lvt a b = true) : putOk (splL a) (splV a) b = true := by
  obtain ⟨h1, h2, h3⟩ := (lvt_iff a b).1 h
  have hs : isS a = true := (isS_iff a).2 h1
  rw [putOk_iff, spl_L hs, spl_V hs]
  omega
/-- A syllable is joined of what it is split into: its first two. -/
theorem join_spl {c : Nat} (h : isS c = true) : joinC (splL c) (splV c) = putC (splL c) (splV c) 0 ∧ joinOk (splL c) (splV c) = true := join_lv (putOk_lv (spl_ok h))
/-- .. and these with its third. -/
theorem join_spl3 {c : Nat} (h : isS c = true) (ht : splT c ≠ 0) : joinC (putC (splL c) (splV c) 0) (splT c) = c ∧ joinOk (putC (splL c) (splV c) 0) (splT c) = true := by
  have h0 := spl_ok0 h
  have hk := spl_ok h
  have hl : lvt (putC (splL c) (splV c) 0) (splT c) = true := by
    unfold lvt
    have : isT (splT c) = true := by rw [isT_iff]; have := (putOk_iff _ _ _).1 hk; omega
    rw [isS_put h0, splT_put h0, this]; rfl
  have hj := join_lvt hl
  rw [splL_put h0, splV_put h0, put_spl h] at hj
  exact hj
/-- What is not joined is 0. -/
theorem join_no {a b : Nat} (h : joinOk a b = false) : joinC a b = 0 := by
  unfold joinOk at h
  rw [Bool.or_eq_false_iff] at h
  unfold joinC
  rw [if_neg (by rw [h.1]; decide), if_neg (by rw [h.2]; decide)]
/-- What is joined is a syllable, of which the two are its beginning. -/
theorem join_only {a b : Nat} (h : joinOk a b = true) : isS (joinC a b) = true ∧
    (splT (joinC a b) = 0 → splL (joinC a b) = a ∧ splV (joinC a b) = b) ∧
    (splT (joinC a b) ≠ 0 → putOk (splL (joinC a b)) (splV (joinC a b)) 0 = true ∧ putC (splL (joinC a b)) (splV (joinC a b)) 0 = a ∧ splT (joinC a b) = b) := by
  unfold joinOk at h
  rw [Bool.or_eq_true] at h
  by_cases h1 : lv a b = true
  · obtain ⟨e, _⟩ := join_lv h1
    have hp := lv_put h1
    rw [e, splL_put hp, splV_put hp, splT_put hp]
    exact ⟨isS_put hp, fun _ => ⟨rfl, rfl⟩, fun h => absurd rfl h⟩
  · have h2 : lvt a b = true := by rcases h with h | h; exact absurd h h1; exact h
    obtain ⟨e, _⟩ := join_lvt h2
    have hp := lvt_put h2
    obtain ⟨g1, g2, g3⟩ := (lvt_iff a b).1 h2
    have hs : isS a = true := (isS_iff a).2 g1
    rw [e, splL_put hp, splV_put hp, splT_put hp]
    refine ⟨isS_put hp, fun h => by omega, fun _ => ⟨spl_ok0 hs, ?_, rfl⟩⟩
    have := put_spl hs
    rwa [(splT_zero a hs).2 g2] at this

/-- One syllable behind another. -/
theorem spl_next {c : Nat} (h1 : 44032 ≤ c) (h2 : c < 55203) : isS c = true ∧ isS (c + 1) = true ∧
    (splT c = 0 → splL (c + 1) = splL c ∧ splV (c + 1) = splV c ∧ splT (c + 1) = 4520) ∧
    (splT c ≠ 0 → splT c < 4546 → splL (c + 1) = splL c ∧ splV (c + 1) = splV c ∧ splT (c + 1) = splT c + 1) ∧
    (splT c ≠ 0 → ¬ splT c < 4546 → splV c < 4469 → splL (c + 1) = splL c ∧ splV (c + 1) = splV c + 1 ∧ splT (c + 1) = 0) ∧
    (splT c ≠ 0 → ¬ splT c < 4546 → ¬ splV c < 4469 → splL (c + 1) = splL c + 1 ∧ splV (c + 1) = 4449 ∧ splT (c + 1) = 0) := by
  have s1 : isS c = true := (isS_iff c).2 ⟨h1, by omega⟩
  have s2 : isS (c + 1) = true := (isS_iff _).2 ⟨by omega, by omega⟩
  refine ⟨s1, s2, ?_⟩
  rw [spl_L s1, spl_V s1, spl_T s1, spl_L s2, spl_V s2, spl_T s2]
  by_cases a : (c - 44032) % 28 = 0
  · rw [if_pos a, if_neg (by omega)]
    exact ⟨fun _ => by omega, fun h => absurd rfl h, fun h => absurd rfl h, fun h => absurd rfl h⟩
  · rw [if_neg a]
    by_cases b : (c + 1 - 44032) % 28 = 0
    · rw [if_pos b]
      exact ⟨fun h => by omega, fun _ h => by omega, fun _ _ h => by omega, fun _ _ h => by omega⟩
    · rw [if_neg b]
      exact ⟨fun h => by omega, fun _ h => by omega, fun _ h => by omega, fun _ h => by omega⟩

theorem spl_bounds (c : Nat) : splL c ≤ 4370 ∧ splV c ≤ 4469 ∧ splT c ≤ 4546 := by
  by_cases h : isS c = true
  · have := (putOk_iff _ _ _).1 (spl_ok h); omega
  · unfold splL splV splT
    rw [if_neg h, if_neg h, if_neg h]
    omega
end Go.Proofs.YtipemmjbgegmfaaGreatDoor

/- Full decompositions as lists, and what they keep. -/
namespace Go.Proofs.YtipemmjbgegmfaaGreatDoor
open Go.RowKit Go.Proofs.YtipemmjbgegmfaaGreatDoor.Ordr Go.Proofs.YtipemmjbgegmfaaGreatDoor.Cmpr

noncomputable def fulN : Nat → Nat → List Nat
  | 0, c => if isS c = true then (if splT c = 0 then [splL c, splV c] else [splL c, splV c, splT c]) else [c]
  | n + 1, c => if isS c = true then (if splT c = 0 then [splL c, splV c] else [splL c, splV c, splT c]) else
      if decOk c = true then (if decB c = 0 then fulN n (decA c) else fulN n (decA c) ++ fulN n (decB c)) else [c]
noncomputable def full (c : Nat) : List Nat := fulN 6 c

theorem decOk_iff (c : Nat) : decOk c = true ↔ rowOf c ≠ 0 := by unfold decOk; exact decide_eq_true_iff
theorem not_S {c : Nat} (h : plainC c = true) : isS c = false := by
  rw [Bool.eq_false_iff]
  intro h2
  have := (isS_iff c).1 h2
  have := (plain_iff c).1 h
  omega
theorem row_S {c : Nat} (h : rowOf c ≠ 0) : isS c = false := not_S (row_p h).key
theorem jam_none {c : Nat} (h : 4352 ≤ c ∧ c ≤ 4607) : rowOf c = 0 := Decidable.byContradiction fun hx => by
  have := (plain_iff c).1 (row_p hx).key
  omega
theorem fulN_S {c : Nat} (h : isS c = true) : ∀ n, fulN n c = if splT c = 0 then [splL c, splV c] else [splL c, splV c, splT c]
  | 0 => by unfold fulN; rw [if_pos h]
  | n + 1 => by unfold fulN; rw [if_pos h]
theorem fulN_no {c : Nat} (hs : isS c = false) (h : rowOf c = 0) : ∀ n, fulN n c = [c]
  | 0 => by unfold fulN; rw [if_neg (by rw [hs]; decide)]
  | n + 1 => by unfold fulN; rw [if_neg (by rw [hs]; decide), if_neg (fun e => (decOk_iff c).1 e h)]
theorem fulN_row {c : Nat} (h : rowOf c ≠ 0) (n : Nat) : fulN (n + 1) c = fulN n (decA c) ++ (if decB c = 0 then [] else [decB c]) := by
  conv => lhs; unfold fulN
  rw [if_neg (by rw [row_S h]; decide), if_pos ((decOk_iff c).2 h)]
  by_cases hb : decB c = 0
  · rw [if_pos hb, if_pos hb, List.append_nil]
  · rw [if_neg hb, if_neg hb, fulN_no (not_S (row_p h).b) (deep h).1]
theorem fulN_ends : ∀ (k : Nat) (c n m : Nat), Ends k c → k ≤ n → k ≤ m → fulN n c = fulN m c
  | 0, c, n, m, h, _, _ => by
    cases hs : isS c with
    | true => rw [fulN_S hs, fulN_S hs]
    | false => rw [fulN_no hs h, fulN_no hs h]
  | k + 1, c, n, m, h, h1, h2 => by
    by_cases hr : rowOf c = 0
    · exact fulN_ends 0 c n m hr (Nat.zero_le _) (Nat.zero_le _)
    · obtain ⟨n, rfl⟩ : ∃ n', n = n' + 1 := ⟨n - 1, by omega⟩
      obtain ⟨m, rfl⟩ : ∃ m', m = m' + 1 := ⟨m - 1, by omega⟩
      rw [fulN_row hr, fulN_row hr, fulN_ends k (decA c) n m (h hr) (by omega) (by omega)]
theorem full_S {c : Nat} (h : isS c = true) : full c = if splT c = 0 then [splL c, splV c] else [splL c, splV c, splT c] := fulN_S h 6
theorem full_no {c : Nat} (hs : isS c = false) (h : rowOf c = 0) : full c = [c] := fulN_no hs h 6
theorem full_row {c : Nat} (h : rowOf c ≠ 0) : full c = full (decA c) ++ (if decB c = 0 then [] else [decB c]) := by
  unfold full
  rw [fulN_row h 5, fulN_ends 2 (decA c) 5 6 (ends_three c h) (by omega) (by omega)]
theorem full_two {c : Nat} (h : rowOf c ≠ 0) : full c = full (decA c) ++ (if decB c = 0 then [] else full (decB c)) := by
  rw [full_row h, full_no (not_S (row_p h).b) (deep h).1]

/-- By what a character is decomposed to. -/
theorem full_ind {P : Nat → Prop} (hS : ∀ c, isS c = true → P c) (h0 : ∀ c, isS c = false → rowOf c = 0 → P c) (hr : ∀ c, rowOf c ≠ 0 → isS c = false → P (decA c) → P c) (c : Nat) : P c := by
  have key : ∀ k c, Ends k c → P c := fun k => by
    induction k with
    | zero =>
      intro c h
      cases hs : isS c with
      | true => exact hS c hs
      | false => exact h0 c hs h
    | succ k ih =>
      intro c h
      cases hs : isS c with
      | true => exact hS c hs
      | false =>
        by_cases hx : rowOf c = 0
        · exact h0 c hs hx
        · exact hr c hx hs (ih _ (h hx))
  exact key 3 c (ends_three c)

theorem spl_range {c : Nat} (h : isS c = true) : (4352 ≤ splL c ∧ splL c ≤ 4370) ∧ (4449 ≤ splV c ∧ splV c ≤ 4469) ∧ (splT c = 0 ∨ 4520 ≤ splT c ∧ splT c ≤ 4546) := by
  have := (putOk_iff _ _ _).1 (spl_ok h)
  omega
theorem jam_S {c : Nat} (h : 4352 ≤ c ∧ c ≤ 4607) : isS c = false := by
  rw [Bool.eq_false_iff]
  intro h2
  have := (isS_iff c).1 h2
  omega
theorem jam_full {c : Nat} (h : 4352 ≤ c ∧ c ≤ 4607) : full c = [c] := full_no (jam_S h) (jam_none h)

/-- None of a full decomposition is a syllable, or decomposed. -/
theorem full_mem (c : Nat) : ∀ y ∈ full c, isS y = false ∧ rowOf y = 0 := by
  refine full_ind (P := fun c => ∀ y ∈ full c, isS y = false ∧ rowOf y = 0) ?_ ?_ ?_ c
  · intro c h y hy
    obtain ⟨h1, h2, h3⟩ := spl_range h
    rw [full_S h] at hy
    have hy2 : 4352 ≤ y ∧ y ≤ 4607 := by
      split at hy <;> simp only [List.mem_cons, List.not_mem_nil, or_false] at hy <;> omega
    exact ⟨jam_S hy2, jam_none hy2⟩
  · intro c hs h y hy
    rw [full_no hs h] at hy
    rw [List.mem_singleton.1 hy]
    exact ⟨hs, h⟩
  · intro c h hs ih y hy
    rw [full_row h, List.mem_append] at hy
    rcases hy with hy | hy
    · exact ih y hy
    · split at hy
      · exact absurd hy (by simp)
      · rw [List.mem_singleton.1 hy]
        exact ⟨not_S (row_p h).b, (deep h).1⟩
theorem full_whole (c : Nat) : ∀ y ∈ full c, full y = [y] := fun y hy => full_no (full_mem c y hy).1 (full_mem c y hy).2
theorem full_some (c : Nat) : full c ≠ [] := by
  refine full_ind (P := fun c => full c ≠ []) ?_ ?_ ?_ c
  · intro c h; rw [full_S h]; split <;> simp
  · intro c hs h; rw [full_no hs h]; simp
  · intro c h hs ih; rw [full_row h]; simp [ih]
theorem full_len (c : Nat) : (full c).length ≤ 4 := by
  have key : ∀ k c, Ends k c → k ≤ 3 → (full c).length ≤ k + 1 ∨ isS c = true := fun k => by
    induction k with
    | zero =>
      intro c h _
      cases hs : isS c with
      | true => exact .inr rfl
      | false => rw [full_no hs h]; exact .inl (Nat.le_refl _)
    | succ k ih =>
      intro c h hk
      cases hs : isS c with
      | true => exact .inr rfl
      | false =>
        by_cases hx : rowOf c = 0
        · rw [full_no hs hx]; exact .inl (by simp)
        · left
          rw [full_row hx, List.length_append]
          rcases ih _ (h hx) (by omega) with h1 | h1
          · split <;> simp <;> omega
          · rw [not_S (row_p hx).a] at h1; exact Bool.noConfusion h1
  rcases key 3 c (ends_three c) (by omega) with h | h
  · exact h
  · rw [full_S h]; split <;> simp

/-- Whole: it is its own full decomposition. -/
theorem whole_iff (c : Nat) : full c = [c] ↔ isS c = false ∧ rowOf c = 0 := by
  constructor
  · intro h; exact full_mem c c (by rw [h]; simp)
  · rintro ⟨h1, h2⟩; exact full_no h1 h2

/-! ### The classes -/
theorem jam_chk : allRows (fun l => force (f5 0 l) fun lo => force (f5 5 l) fun hi => bif (bif Nat.blt hi 4352 then true else Nat.blt 4607 lo) then (bif Nat.blt hi 44032 then true else Nat.blt 55203 lo) else false) 12 388 clsS.data.toList = true := by kernel_rfl
theorem blt_of {a b : Nat} (h : Nat.blt a b = true) : a < b := Nat.le_of_ble_eq_true h
theorem jam_cls {c : Nat} (h : (4352 ≤ c ∧ c ≤ 4607) ∨ (44032 ≤ c ∧ c ≤ 55203)) : clsOf c = 0 := by
  refine cls_zero fun i hi hb => ?_
  have hr := allRows_at _ _ _ _ i jam_chk hi
  simp only [force_eq] at hr
  obtain ⟨h1, h2⟩ := hb
  generalize f5 0 (clsS.data.toList.drop (i * 12)) = lo at *
  generalize f5 5 (clsS.data.toList.drop (i * 12)) = hi' at *
  cases q1 : Nat.blt hi' 4352 with
  | true =>
    have := blt_of q1
    rw [q1, cond_true, cond_true] at hr
    omega
  | false =>
    rw [q1, cond_false] at hr
    cases q2 : Nat.blt 4607 lo with
    | false => rw [q2] at hr; exact Bool.noConfusion hr
    | true =>
      have := blt_of q2
      rw [q2, cond_true] at hr
      cases q3 : Nat.blt hi' 44032 with
      | true => have := blt_of q3; omega
      | false =>
        rw [q3, cond_false] at hr
        have := blt_of hr
        omega
theorem cls_S {c : Nat} (h : isS c = true) : clsOf c = 0 := jam_cls (.inr ((isS_iff c).1 h))

/-! ### In order -/
theorem isOrd_snoc (cls : Nat → Nat) {l : List Nat} {z b : Nat} (h : isOrd cls (l ++ [z])) (hb : cls b ≠ 0 → cls z ≤ cls b) : isOrd cls (l ++ [z] ++ [b]) := by
  unfold isOrd at *
  simp only [List.reverse_append, List.reverse_cons, List.reverse_nil, List.nil_append, List.cons_append] at *
  exact ⟨fun h2 => by have := hb h2.1; omega, h⟩
theorem isOrd_one (cls : Nat → Nat) (c : Nat) : isOrd cls [c] := trivial
theorem isOrd_zero (cls : Nat → Nat) {l : List Nat} (h : ∀ y ∈ l, cls y = 0) : isOrd cls l := by
  have : ∀ m : List Nat, (∀ y ∈ m, cls y = 0) → up cls m := fun m => by
    induction m with
    | nil => intro _; trivial
    | cons x m ih =>
      intro hm
      cases m with
      | nil => trivial
      | cons y m => exact ⟨fun h2 => h2.1 (hm x (by simp)), ih (fun z hz => hm z (by simp [hz]))⟩
  exact this _ (fun y hy => h y (by simpa using hy))
theorem lastN_ends : ∀ (k x n m : Nat), Ends k x → k ≤ n → k ≤ m → lastN n x = lastN m x
  | 0, x, n, m, h, _, _ => by
    have : ∀ n, lastN n x = x := fun n => by
      cases n with
      | zero => rfl
      | succ n => unfold lastN; rw [if_pos (show rowOf x = 0 from h)]
    rw [this, this]
  | k + 1, x, n, m, h, h1, h2 => by
    by_cases hr : rowOf x = 0
    · exact lastN_ends 0 x n m hr (Nat.zero_le _) (Nat.zero_le _)
    · obtain ⟨n, rfl⟩ : ∃ n', n = n' + 1 := ⟨n - 1, by omega⟩
      obtain ⟨m, rfl⟩ : ∃ m', m = m' + 1 := ⟨m - 1, by omega⟩
      unfold lastN
      rw [if_neg hr, if_neg hr]
      split
      · exact lastN_ends k _ n m (h hr) (by omega) (by omega)
      · rfl
theorem firstN_ends : ∀ (k x n m : Nat), Ends k x → k ≤ n → k ≤ m → firstN n x = firstN m x
  | 0, x, n, m, h, _, _ => by
    have : ∀ n, firstN n x = x := fun n => by
      cases n with
      | zero => rfl
      | succ n => unfold firstN; rw [if_pos (show rowOf x = 0 from h)]
    rw [this, this]
  | k + 1, x, n, m, h, h1, h2 => by
    by_cases hr : rowOf x = 0
    · exact firstN_ends 0 x n m hr (Nat.zero_le _) (Nat.zero_le _)
    · obtain ⟨n, rfl⟩ : ∃ n', n = n' + 1 := ⟨n - 1, by omega⟩
      obtain ⟨m, rfl⟩ : ∃ m', m = m' + 1 := ⟨m - 1, by omega⟩
      unfold firstN
      rw [if_neg hr, if_neg hr]
      exact firstN_ends k _ n m (h hr) (by omega) (by omega)
theorem last_row {x : Nat} (h : rowOf x ≠ 0) : lastN 3 x = if decB x = 0 then lastN 3 (decA x) else decB x := by
  have e := lastN_ends 2 (decA x) 2 3 (ends_three x h) (by omega) (by omega)
  conv => lhs; unfold lastN
  rw [if_neg h, e]
theorem first_row {x : Nat} (h : rowOf x ≠ 0) : firstN 3 x = firstN 3 (decA x) := by
  have e := firstN_ends 2 (decA x) 2 3 (ends_three x h) (by omega) (by omega)
  conv => lhs; unfold firstN
  rw [if_neg h, e]
theorem no_3 {x : Nat} (h : rowOf x = 0) : lastN 3 x = x ∧ firstN 3 x = x := by
  unfold lastN firstN
  rw [if_pos h, if_pos h]
  exact ⟨rfl, rfl⟩
/-- The last one. -/
theorem full_last (c : Nat) : isS c = false → ∃ l, full c = l ++ [lastN 3 c] := by
  refine full_ind (P := fun c => isS c = false → ∃ l, full c = l ++ [lastN 3 c]) ?_ ?_ ?_ c
  · intro c h h2; rw [h] at h2; exact Bool.noConfusion h2
  · intro c hs h _; exact ⟨[], by rw [full_no hs h, (no_3 h).1]; rfl⟩
  · intro c h hs ih _
    obtain ⟨l, hl⟩ := ih (not_S (row_p h).a)
    rw [full_row h, last_row h]
    by_cases hb : decB c = 0
    · rw [if_pos hb, if_pos hb, List.append_nil]; exact ⟨l, hl⟩
    · rw [if_neg hb, if_neg hb]; exact ⟨_, rfl⟩
theorem full_first (c : Nat) : isS c = false → ∃ l, full c = firstN 3 c :: l := by
  refine full_ind (P := fun c => isS c = false → ∃ l, full c = firstN 3 c :: l) ?_ ?_ ?_ c
  · intro c h h2; rw [h] at h2; exact Bool.noConfusion h2
  · intro c hs h _; exact ⟨[], by rw [full_no hs h, (no_3 h).2]⟩
  · intro c h hs ih _
    obtain ⟨l, hl⟩ := ih (not_S (row_p h).a)
    rw [full_row h, first_row h, hl]
    exact ⟨_, rfl⟩
set_option maxRecDepth 100000 in
theorem full_ord_of (cls : Nat → Nat) (hj : ∀ y, 4352 ≤ y ∧ y ≤ 4607 → cls y = 0) (ho : ∀ x, rowOf x ≠ 0 → decB x ≠ 0 → cls (decB x) ≠ 0 → cls (lastN 3 (decA x)) ≤ cls (decB x)) (c : Nat) : isOrd cls (full c) := by
  refine full_ind (P := fun c => isOrd cls (full c)) ?_ ?_ ?_ c
  · intro c h
    refine isOrd_zero cls fun y hy => hj y ?_
    obtain ⟨h1, h2, h3⟩ := spl_range h
    rw [full_S h] at hy
    split at hy <;> simp only [List.mem_cons, List.not_mem_nil, or_false] at hy <;> omega
  · intro c hs h
    rw [full_no hs h]
    exact isOrd_one cls c
  · intro c h hs ih
    have e := full_row h
    have ho' := ho c h
    obtain ⟨l, hl⟩ := full_last (decA c) (not_S (row_p h).a)
    clear h hs ho
    rw [hl] at ih e
    generalize full c = F at *
    generalize decB c = b at *
    generalize lastN 3 (decA c) = z at *
    subst e
    by_cases hb : b = 0
    · rw [if_pos hb, List.append_nil]; exact ih
    · rw [if_neg hb]
      exact isOrd_snoc cls ih fun h2 => ho' hb h2
theorem full_ord (c : Nat) : isOrd clsOf (full c) := full_ord_of clsOf (fun _ h => jam_cls (.inl h)) (fun _ h => (row_is h).ord) c

/-! ### Two -/
/-- What two are composed to. -/
noncomputable def twoO (a b : Nat) : Option Nat := by
  classical exact if joinOk a b = true then some (joinC a b) else if h : ∃ x, PairP parL a b x true then some (Classical.choose h) else none
theorem two_join {a b : Nat} (h : joinOk a b = true) : twoO a b = some (joinC a b) := by unfold twoO; rw [if_pos h]
theorem two_pair {a b x : Nat} (h : joinOk a b = false) (hp : PairP parL a b x true) : twoO a b = some x := by
  unfold twoO
  rw [if_neg (by rw [h]; decide), dif_pos ⟨x, hp⟩]
  congr 1
  exact (pair_uniq (Classical.choose_spec (p := fun x => PairP parL a b x true) ⟨x, hp⟩) hp).1
theorem two_none' {a b x : Nat} (h : joinOk a b = false) (hp : PairP parL a b x false) : twoO a b = none := by
  unfold twoO
  rw [if_neg (by rw [h]; decide), dif_neg]
  rintro ⟨y, hy⟩
  exact Bool.noConfusion (pair_uniq hy hp).2
theorem two_cases {a b x : Nat} (h : twoO a b = some x) : (joinOk a b = true ∧ x = joinC a b) ∨ (joinOk a b = false ∧ PairP parL a b x true) := by
  unfold twoO at h
  by_cases hj : joinOk a b = true
  · rw [if_pos hj] at h; exact .inl ⟨hj, (Option.some.inj h).symm⟩
  · rw [if_neg hj] at h
    split at h
    · rename_i hp
      rw [← Option.some.inj h]
      exact .inr ⟨by simpa using hj, Classical.choose_spec hp⟩
    · exact absurd h (by simp)
theorem pair_full {a b x : Nat} (h : PairP parL a b x true) : full x = full a ++ full b ∧ clsOf x = 0 ∧ full b = [b] ∧ isS x = false := by
  obtain ⟨h1, h2, h3, h4, _⟩ := pair_back h
  obtain ⟨_, _, h5⟩ := cmp_pair h4
  have e := full_two h1
  rw [if_neg h5, h2, h3] at e
  have hb := full_no (not_S (row_p h1).b) (deep h1).1
  rw [h3] at hb
  exact ⟨e, (firsts h4).2, hb, row_S h1⟩
theorem join_full {a b : Nat} (h : joinOk a b = true) : full (joinC a b) = full a ++ full b ∧ clsOf (joinC a b) = 0 ∧ full b = [b] := by
  have h0 := h
  unfold joinOk at h
  rw [Bool.or_eq_true] at h
  by_cases h1 : lv a b = true
  · obtain ⟨e, _⟩ := join_lv h1
    have hp := lv_put h1
    have hr := (lv_iff a b).1 h1
    rw [e, full_S (isS_put hp), splL_put hp, splV_put hp, splT_put hp, if_pos rfl, jam_full (c := a) (by omega), jam_full (c := b) (by omega)]
    exact ⟨rfl, cls_S (isS_put hp), rfl⟩
  · have h2 : lvt a b = true := by rcases h with h | h; exact absurd h h1; exact h
    obtain ⟨e, _⟩ := join_lvt h2
    have hp := lvt_put h2
    obtain ⟨g1, g2, g3⟩ := (lvt_iff a b).1 h2
    have hs : isS a = true := (isS_iff a).2 g1
    rw [e, full_S (isS_put hp), splL_put hp, splV_put hp, splT_put hp, if_neg (by omega), full_S hs, if_pos ((splT_zero a hs).2 g2), jam_full (c := b) (by omega)]
    exact ⟨rfl, cls_S (isS_put hp), rfl⟩

theorem good : Cmpr.Good clsOf twoO full where
  whole := full_whole
  some_ := full_some
  pair := fun a b x h => by
    rcases two_cases h with ⟨h1, rfl⟩ | ⟨_, h1⟩
    · exact (join_full h1).1
    · exact (pair_full h1).1
  ord := full_ord
  start := fun a b x h => by
    rcases two_cases h with ⟨h1, rfl⟩ | ⟨_, h1⟩
    · exact (join_full h1).2.1
    · exact (pair_full h1).2.1
  second := fun a b x h => by
    rcases two_cases h with ⟨h1, _⟩ | ⟨_, h1⟩
    · exact (join_full h1).2.2
    · exact (pair_full h1).2.2.1

end Go.Proofs.YtipemmjbgegmfaaGreatDoor

/- Full decompositions: what starts; what is composed to itself; widths; code points. -/
namespace Go.Proofs.YtipemmjbgegmfaaGreatDoor
open Go.RowKit Go.Proofs.YtipemmjbgegmfaaGreatDoor.Ordr Go.Proofs.YtipemmjbgegmfaaGreatDoor.Cmpr

theorem join_hanV {a b : Nat} (h : joinOk a b = true) : hanV b = true := by
  unfold joinOk at h
  rw [Bool.or_eq_true, lv_iff, lvt_iff] at h
  unfold hanV
  rw [Bool.or_eq_true, Bool.and_eq_true, Bool.and_eq_true, decide_eq_true_eq, decide_eq_true_eq, decide_eq_true_eq, decide_eq_true_eq]
  omega
theorem two_sec {s f x : Nat} (h : twoO s f = some x) : secOf f = true := by
  rcases two_cases h with ⟨h1, _⟩ | ⟨_, h1⟩
  · unfold secOf; rw [join_hanV h1]; rfl
  · obtain ⟨_, _, _, _, h2⟩ := pair_back h1; exact h2
theorem two_not {f : Nat} (h : secOf f = false) (s : Nat) : twoO s f = none := by
  cases h2 : twoO s f with
  | none => rfl
  | some x => rw [two_sec h2] at h; exact Bool.noConfusion h
theorem plain_hanV {c : Nat} (h : plainC c = true) : hanV c = false := by
  rw [Bool.eq_false_iff]
  intro h2
  have := (plain_iff c).1 h
  unfold hanV at h2
  rw [Bool.or_eq_true, Bool.and_eq_true, Bool.and_eq_true, decide_eq_true_eq, decide_eq_true_eq, decide_eq_true_eq, decide_eq_true_eq] at h2
  omega
theorem first_plain : ∀ (n x : Nat), plainC x = true → plainC (firstN n x) = true
  | 0, _, h => h
  | n + 1, x, h => by
    unfold firstN
    by_cases hr : rowOf x = 0
    · rw [if_pos hr]; exact h
    · rw [if_neg hr]; exact first_plain n _ (row_p hr).a
theorem par_second (i : Nat) (hi : i < 941) : plainC (fld parL 15 i 5 5) = true := by
  have hp : PairP parL (key parL 15 i) (fld parL 15 i 5 5) (fld parL 15 i 10 5) true := .inl ⟨rfl, i, hi, rfl, rfl, rfl⟩
  obtain ⟨h1, _, h3, _⟩ := pair_back hp
  rw [← h3]
  exact (row_p h1).b
/-- The first one of what starts starts, too: nothing ahead of it goes into it. -/
theorem start_full {z : Nat} (h : startOf z = true) : ∀ f t, full z = f :: t → clsOf f = 0 ∧ ∀ s, twoO s f = none := by
  unfold startOf at h
  rw [Bool.and_eq_true, decide_eq_true_eq, decide_eq_true_eq] at h
  obtain ⟨h0, hq⟩ := h
  have hsec : secOf z = false := by
    unfold quickOf at hq
    split at hq
    · omega
    · split at hq
      · omega
      · rename_i h; simpa using h
  intro f t hf
  cases hs : isS z with
  | true =>
    obtain ⟨h1, h2, h3⟩ := spl_range hs
    have e : f = splL z := by rw [full_S hs] at hf; split at hf <;> exact (List.cons.inj hf).1.symm
    subst e
    have hn : secOf (splL z) = false := by
      unfold secOf
      rw [Bool.or_eq_false_iff]
      refine ⟨?_, ?_⟩
      · unfold hanV; simp; omega
      · rw [Bool.eq_false_iff]
        intro h4
        obtain ⟨i, hi, h5⟩ := (isSec_iff _).1 h4
        have hp := par_second i hi
        rw [h5] at hp
        have := (plain_iff _).1 hp
        omega
    exact ⟨jam_cls (.inl (by omega)), two_not hn⟩
  | false =>
    obtain ⟨l, hl⟩ := full_first z hs
    rw [hl] at hf
    have e := (List.cons.inj hf).1
    subst e
    by_cases hr : rowOf z = 0
    · rw [(no_3 hr).2]; exact ⟨h0, two_not hsec⟩
    · have hc : cmpOf z = true := by
        unfold quickOf at hq
        split at hq
        · omega
        · rename_i h4
          cases hc : cmpOf z with
          | true => rfl
          | false => exact absurd ⟨hr, hc⟩ h4
      rw [first_row hr]
      obtain ⟨g1, g2⟩ := (row_is hr).first hc
      refine ⟨g1, two_not ?_⟩
      unfold secOf
      rw [g2, plain_hanV (first_plain 3 _ (row_p hr).a)]; rfl

theorem join_plain {a b : Nat} (h : plainC a = true) : joinOk a b = false := by
  rw [Bool.eq_false_iff]
  intro h2
  have := (plain_iff a).1 h
  unfold joinOk at h2
  rw [Bool.or_eq_true, lv_iff, lvt_iff] at h2
  omega
theorem two_cmp {c : Nat} (h : cmpOf c = true) : twoO (decA c) (decB c) = some c := by
  obtain ⟨hr, hp, _⟩ := cmp_pair h
  exact two_pair (join_plain (row_p hr).a) hp
theorem comp_cmp (c : Nat) : cmpOf c = true → comp clsOf twoO (full c) = [c] := by
  have key : ∀ k c, Ends k c → cmpOf c = true → comp clsOf twoO (full c) = [c] := fun k => by
    induction k with
    | zero => intro c h hc; exact absurd h (cmp_pair hc).1
    | succ k ih =>
      intro c h hc
      obtain ⟨hr, _, hb⟩ := cmp_pair hc
      rw [full_row hr, if_neg hb]
      refine comp_two clsOf twoO (a := decA c) (b := decB c) ?_ (firsts hc).1 (two_cmp hc)
      by_cases ha : rowOf (decA c) = 0
      · rw [full_no (not_S (row_p hr).a) ha]; exact comp_one clsOf twoO _
      · exact ih _ (h hr) ((row_is hr).again hc ha)
  exact key 3 c (ends_three c)
theorem comp_S {c : Nat} (h : isS c = true) : comp clsOf twoO (full c) = [c] := by
  obtain ⟨h1, h2, h3⟩ := spl_range h
  have e1 := join_spl h
  have e2 : comp clsOf twoO [splL c, splV c] = [putC (splL c) (splV c) 0] := by
    have := comp_two clsOf twoO (l := [splL c]) (a := splL c) (b := splV c) (x := putC (splL c) (splV c) 0) (comp_one clsOf twoO _) (jam_cls (.inl (by omega))) (by rw [two_join e1.2, e1.1])
    exact this
  rw [full_S h]
  by_cases ht : splT c = 0
  · rw [if_pos ht, e2]
    have := put_spl h
    rw [ht] at this
    rw [this]
  · rw [if_neg ht]
    have e3 := join_spl3 h ht
    have := comp_two clsOf twoO (l := [splL c, splV c]) (a := putC (splL c) (splV c) 0) (b := splT c) (x := c) e2 (cls_S (isS_put (spl_ok0 h))) (by rw [two_join e3.2, e3.1])
    exact this
theorem comp_full_iff (c : Nat) : comp clsOf twoO (full c) = [c] ↔ cmpOf c = true ∨ full c = [c] ∨ isS c = true := by
  constructor
  · intro h
    by_cases hs : isS c = true
    · exact .inr (.inr hs)
    · by_cases hr : rowOf c = 0
      · exact .inr (.inl (full_no (by simpa using hs) hr))
      · cases hc : cmpOf c with
        | true => exact .inl rfl
        | false =>
          exfalso
          refine comp_full_no clsOf twoO (x := c) (l := full c) (fun y hy e => ?_) (fun a b h2 => ?_) h
          · rw [e] at hy; exact hr (full_mem c c hy).2
          · rcases two_cases h2 with ⟨h3, e⟩ | ⟨_, h3⟩
            · have := (join_only h3).1
              rw [← e] at this
              exact hs this
            · obtain ⟨_, _, _, h4, _⟩ := pair_back h3
              rw [hc] at h4; exact Bool.noConfusion h4
  · rintro (h | h | h)
    · exact comp_cmp c h
    · rw [h]; exact comp_one clsOf twoO _
    · exact comp_S h

/-! ### Code points and widths -/
def okC (c : Nat) : Bool := decide (c ≤ 1114111) && (decide (c < 55296) || decide (57343 < c))
theorem okC_iff (c : Nat) : okC c = true ↔ c ≤ 1114111 ∧ (c < 55296 ∨ 57343 < c) := by
  unfold okC
  rw [Bool.and_eq_true, Bool.or_eq_true, decide_eq_true_eq, decide_eq_true_eq, decide_eq_true_eq]
theorem plain_ok {c : Nat} (h : plainC c = true) : okC c = true := by
  rw [okC_iff]
  have := (plain_iff c).1 h
  omega
theorem full_ok (c : Nat) : okC c = true → ∀ y ∈ full c, okC y = true := by
  refine full_ind (P := fun c => okC c = true → ∀ y ∈ full c, okC y = true) ?_ ?_ ?_ c
  · intro c h _ y hy
    obtain ⟨h1, h2, h3⟩ := spl_range h
    rw [full_S h] at hy
    rw [okC_iff]
    split at hy <;> simp only [List.mem_cons, List.not_mem_nil, or_false] at hy <;> omega
  · intro c hs h hc y hy
    rw [full_no hs h] at hy
    rw [List.mem_singleton.1 hy]; exact hc
  · intro c h hs ih _ y hy
    rw [full_row h, List.mem_append] at hy
    rcases hy with hy | hy
    · exact ih (plain_ok (row_p h).a) y hy
    · split at hy
      · exact absurd hy (by simp)
      · rw [List.mem_singleton.1 hy]; exact plain_ok (row_p h).b
theorem two_ok {a b x : Nat} (h : twoO a b = some x) : okC x = true := by
  rcases two_cases h with ⟨h1, rfl⟩ | ⟨_, h1⟩
  · have := (isS_iff _).1 (join_only h1).1
    rw [okC_iff]; omega
  · exact plain_ok (row_is (pair_back h1).1).key
theorem full_lt (c : Nat) (hc : c < 4294967296) : ∀ y ∈ full c, y < 4294967296 := by
  refine full_ind (P := fun c => c < 4294967296 → ∀ y ∈ full c, y < 4294967296) ?_ ?_ ?_ c hc
  · intro c h _ y hy
    obtain ⟨h1, h2, h3⟩ := spl_range h
    rw [full_S h] at hy
    split at hy <;> simp only [List.mem_cons, List.not_mem_nil, or_false] at hy <;> omega
  · intro c hs h hc y hy
    rw [full_no hs h] at hy
    rw [List.mem_singleton.1 hy]; exact hc
  · intro c h hs ih _ y hy
    have p1 := (plain_iff _).1 (row_p h).a
    have p2 := (plain_iff _).1 (row_p h).b
    rw [full_row h, List.mem_append] at hy
    rcases hy with hy | hy
    · exact ih (by omega) y hy
    · split at hy
      · exact absurd hy (by simp)
      · rw [List.mem_singleton.1 hy]; omega
theorem two_lt {a b x : Nat} (h : twoO a b = some x) : x < 4294967296 := by
  have := (okC_iff _).1 (two_ok h); omega

theorem widU_eq (c : Nat) : widU c = if c < 128 then 1 else if c < 2048 then 2 else if c < 65536 then 3 else 4 := by
  have key : ∀ k : Nat, Nat.blt c k = decide (c < k) := fun k => by
    rw [Bool.eq_iff_iff, decide_eq_true_eq]
    exact ⟨blt_of, fun h => Nat.ble_eq_true_of_le h⟩
  unfold widU
  rw [key, key, key]
  by_cases h1 : c < 128
  · simp [h1]
  · by_cases h2 : c < 2048
    · simp [h1, h2]
    · by_cases h3 : c < 65536
      · simp [h1, h2, h3]
      · simp [h1, h2, h3]
/-- How many bytes a list of code points takes. -/
def widL (l : List Nat) : Nat := (l.map widU).sum
theorem widL_app (a b : List Nat) : widL (a ++ b) = widL a + widL b := by unfold widL; simp
theorem widL_perm {a b : List Nat} (h : a.Perm b) : widL a = widL b := by
  unfold widL
  exact (h.map widU).sum_nat
theorem widN_ends : ∀ (k x n m : Nat), Ends k x → k ≤ n → k ≤ m → widN n x = widN m x
  | 0, x, n, m, h, _, _ => by
    have : ∀ n, widN n x = widU x := fun n => by
      cases n with
      | zero => rfl
      | succ n => unfold widN; rw [if_pos (show rowOf x = 0 from h)]
    rw [this, this]
  | k + 1, x, n, m, h, h1, h2 => by
    by_cases hr : rowOf x = 0
    · exact widN_ends 0 x n m hr (Nat.zero_le _) (Nat.zero_le _)
    · obtain ⟨n, rfl⟩ : ∃ n', n = n' + 1 := ⟨n - 1, by omega⟩
      obtain ⟨m, rfl⟩ : ∃ m', m = m' + 1 := ⟨m - 1, by omega⟩
      unfold widN
      rw [if_neg hr, if_neg hr, widN_ends k _ n m (h hr) (by omega) (by omega)]
theorem wid_full (c : Nat) : isS c = false → widL (full c) = widN 3 c := by
  refine full_ind (P := fun c => isS c = false → widL (full c) = widN 3 c) ?_ ?_ ?_ c
  · intro c h h2; rw [h] at h2; exact Bool.noConfusion h2
  · intro c hs h _
    rw [full_no hs h]
    unfold widN
    rw [if_pos h]
    unfold widL; simp
  · intro c h hs ih _
    have e := widN_ends 2 (decA c) 2 3 (ends_three c h) (by omega) (by omega)
    rw [full_row h, widL_app, ih (not_S (row_p h).a)]
    conv => rhs; unfold widN
    rw [if_neg h, e]
    split
    · unfold widL; simp
    · unfold widL; simp
theorem full_wid (c : Nat) : widL (full c) ≤ 3 * widU c := by
  cases hs : isS c with
  | true =>
    obtain ⟨h1, h2, h3⟩ := spl_range hs
    have g := (isS_iff c).1 hs
    have key : ∀ y, 2048 ≤ y → y < 65536 → widU y = 3 := fun y a b => by rw [widU_eq, if_neg (by omega), if_neg (by omega), if_pos b]
    rw [full_S hs, key c (by omega) (by omega)]
    by_cases ht : splT c = 0
    · rw [if_pos ht]
      unfold widL
      simp only [List.map_cons, List.map_nil, List.sum_cons, List.sum_nil, key (splL c) (by omega) (by omega), key (splV c) (by omega) (by omega)]
      omega
    · rw [if_neg ht]
      unfold widL
      simp only [List.map_cons, List.map_nil, List.sum_cons, List.sum_nil, key (splL c) (by omega) (by omega), key (splV c) (by omega) (by omega), key (splT c) (by omega) (by omega)]
      omega
  | false =>
    rw [wid_full c hs]
    by_cases hr : rowOf c = 0
    · unfold widN
      rw [if_pos hr]
      omega
    · exact (row_is hr).wid
theorem two_wid {a b x : Nat} (h : twoO a b = some x) : widU x ≤ widU a + widU b := by
  rcases two_cases h with ⟨h1, rfl⟩ | ⟨_, h1⟩
  · have key : ∀ y, 2048 ≤ y → y < 65536 → widU y = 3 := fun y a b => by rw [widU_eq, if_neg (by omega), if_neg (by omega), if_pos b]
    have g := (isS_iff _).1 (join_only h1).1
    have hb := join_hanV h1
    unfold hanV at hb
    rw [Bool.or_eq_true, Bool.and_eq_true, Bool.and_eq_true, decide_eq_true_eq, decide_eq_true_eq, decide_eq_true_eq, decide_eq_true_eq] at hb
    rw [key _ (by omega) (by omega), key b (by omega) (by omega)]
    omega
  · obtain ⟨h2, h3, h4, h5, _⟩ := pair_back h1
    have := (row_is h2).less h5
    rwa [h3, h4] at this

end Go.Proofs.YtipemmjbgegmfaaGreatDoor
