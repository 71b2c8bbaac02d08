/- Composing, plain: over any classes, any pairs, any decompositions that keep some facts. -/
import Derived.Test.YthdhlcafomhdbaaDoorOrdr
namespace Go.Proofs.YthdhlcafomhdbaaDoor.Cmpr
open Go.Proofs.YthdhlcafomhdbaaDoor.Ordr
variable (cls : Nat → Nat) (two : Nat → Nat → Option Nat)

/-- What is kept: ahead of the last starter (the last one first) and the last starter, if there is one; behind it (the last one first). -/
abbrev St := Option (List Nat × Nat) × List Nat
def blocked (mid : List Nat) (c : Nat) : Bool := match mid with
  | [] => false
  | k :: _ => decide (cls k = 0) || decide (cls c ≤ cls k)
def keep (σ : St) (c : Nat) : St := match σ with
  | (none, mid) => if cls c = 0 then (some (mid, c), []) else (none, c :: mid)
  | (some (pre, s), mid) => if cls c = 0 then (some (mid ++ s :: pre, c), []) else (some (pre, s), c :: mid)
def step (σ : St) (c : Nat) : St := match σ with
  | (none, mid) => keep cls (none, mid) c
  | (some (pre, s), mid) => if blocked cls mid c = true then keep cls (some (pre, s), mid) c else match two s c with
    | some x => (some (pre, x), mid)
    | none => keep cls (some (pre, s), mid) c
/-- What is kept, the last one first. -/
def back (σ : St) : List Nat := match σ with
  | (none, mid) => mid
  | (some (pre, s), mid) => mid ++ s :: pre
def run (l : List Nat) (σ : St) : St := l.foldl (step cls two) σ
def comp (l : List Nat) : List Nat := (back (run cls two l (none, []))).reverse

theorem back_keep (σ : St) (c : Nat) : back (keep cls σ c) = c :: back σ := by
  rcases σ with ⟨_ | ⟨pre, s⟩, mid⟩ <;> unfold keep back <;> by_cases h : cls c = 0 <;> simp [h]
/-- Either it is kept, or it goes into the last starter. -/
theorem step_cases (σ : St) (c : Nat) : step cls two σ c = keep cls σ c ∨ ∃ pre s mid x, σ = (some (pre, s), mid) ∧ blocked cls mid c = false ∧ two s c = some x ∧ step cls two σ c = (some (pre, x), mid) := by
  rcases σ with ⟨_ | ⟨pre, s⟩, mid⟩
  · exact .inl rfl
  · cases hb : blocked cls mid c with
    | true => left; unfold step; simp [hb]
    | false =>
      cases h2 : two s c with
      | none => left; unfold step; simp [hb, h2]
      | some x => exact .inr ⟨pre, s, mid, x, rfl, hb, h2, by unfold step; simp [hb, h2]⟩
theorem run_app (a b : List Nat) (σ : St) : run cls two (a ++ b) σ = run cls two b (run cls two a σ) := by unfold run; rw [List.foldl_append]
theorem run_snoc (a : List Nat) (c : Nat) (σ : St) : run cls two (a ++ [c]) σ = step cls two (run cls two a σ) c := by rw [run_app]; rfl

/-- What the characters' data keep. -/
structure Good (full : Nat → List Nat) : Prop where
  whole : ∀ x, ∀ y ∈ full x, full y = [y]
  some_ : ∀ x, full x ≠ []
  pair : ∀ a b x, two a b = some x → full x = full a ++ full b
  ord : ∀ x, isOrd cls (full x)
  start : ∀ a b x, two a b = some x → cls x = 0
  second : ∀ a b x, two a b = some x → full b = [b]

variable {full : Nat → List Nat} (G : Good cls two full)

/-- What is kept of p, whole and in order, is p again. -/
structure Inv (full : Nat → List Nat) (p : List Nat) (σ : St) : Prop where
  back : ord cls ((back σ).reverse.flatMap full) = p
  mids : ∀ m ∈ σ.2, full m = [m] ∧ (∀ pre s, σ.1 = some (pre, s) → cls m ≠ 0)
  last : ∀ pre s m mid, σ = (some (pre, s), m :: mid) → ∃ q z, p = q ++ [z] ∧ cls z ≠ 0 ∧ ∀ y ∈ m :: mid, cls y ≤ cls z
  rise : ∀ pre s m mid, σ = (some (pre, s), m :: mid) → ∀ y ∈ mid, cls y ≤ cls m

theorem full_id : ∀ (l : List Nat), (∀ y ∈ l, full y = [y]) → l.flatMap full = l := by
  intro l
  induction l with
  | nil => intro _; rfl
  | cons a l ih =>
    intro h
    rw [List.flatMap_cons, h a (by simp), ih (fun y hy => h y (by simp [hy]))]; rfl

include G in
theorem inv_step {p : List Nat} {σ : St} (h : Inv cls full p σ) {c : Nat} (hc : full c = [c]) (ho : isOrd cls (p ++ [c])) : Inv cls full (p ++ [c]) (step cls two σ c) := by
  rcases step_cases cls two σ c with e | ⟨pre, s, mid, x, rfl, hb, h2, e⟩
  · rw [e]
    have hbk : ord cls ((back (keep cls σ c)).reverse.flatMap full) = p ++ [c] := by
      rw [back_keep, List.reverse_cons, List.flatMap_append, List.flatMap_cons, hc]
      show ord cls (_ ++ [c]) = _
      rw [← ord_ord_app, h.back, ord_stay cls ho]
    rcases σ with ⟨_ | ⟨pre, s⟩, mid⟩
    · by_cases h0 : cls c = 0
      · have e2 : keep cls (none, mid) c = (some (mid, c), []) := by unfold keep; simp [h0]
        rw [e2] at hbk ⊢
        exact ⟨hbk, fun m hm => by simp at hm, fun _ _ _ _ he => by simp at he, fun _ _ _ _ he => by simp at he⟩
      · have e2 : keep cls (none, mid) c = (none, c :: mid) := by unfold keep; simp [h0]
        rw [e2] at hbk ⊢
        refine ⟨hbk, fun m hm => ⟨?_, fun _ _ he => by simp at he⟩, fun _ _ _ _ he => by simp at he, fun _ _ _ _ he => by simp at he⟩
        rcases List.mem_cons.1 hm with rfl | hm
        · exact hc
        · exact (h.mids m hm).1
    · by_cases h0 : cls c = 0
      · have e2 : keep cls (some (pre, s), mid) c = (some (mid ++ s :: pre, c), []) := by unfold keep; simp [h0]
        rw [e2] at hbk ⊢
        exact ⟨hbk, fun m hm => by simp at hm, fun _ _ _ _ he => by simp at he, fun _ _ _ _ he => by simp at he⟩
      · have e2 : keep cls (some (pre, s), mid) c = (some (pre, s), c :: mid) := by unfold keep; simp [h0]
        rw [e2] at hbk ⊢
        have hle : ∀ y ∈ mid, cls y ≤ cls c := by
          cases mid with
          | nil => intro y hy; simp at hy
          | cons m mid =>
            obtain ⟨q, z, rfl, hz, hy⟩ := h.last pre s m mid rfl
            have := isOrd_last cls (a := q) (x := z) (y := c) (by rw [List.append_assoc] at ho; exact ho)
            intro y hy'
            have := hy y hy'
            omega
        refine ⟨hbk, fun m hm => ?_, fun pre' s' m' mid' he => ?_, fun pre' s' m' mid' he => ?_⟩
        · rcases List.mem_cons.1 hm with rfl | hm
          · exact ⟨hc, fun _ _ _ => h0⟩
          · exact ⟨(h.mids m hm).1, fun pre' s' _ => (h.mids m hm).2 pre s rfl⟩
        · simp only [Prod.mk.injEq, Option.some.injEq, List.cons.injEq] at he
          obtain ⟨⟨rfl, rfl⟩, rfl, rfl⟩ := he
          exact ⟨p, c, rfl, h0, fun y hy => by
            rcases List.mem_cons.1 hy with rfl | hy
            · exact Nat.le_refl _
            · exact hle y hy⟩
        · simp only [Prod.mk.injEq, Option.some.injEq, List.cons.injEq] at he
          obtain ⟨⟨rfl, rfl⟩, rfl, rfl⟩ := he
          exact hle
  · rw [e]
    have hp := G.pair s c x h2
    rw [hc] at hp
    have hlow : ∀ m ∈ mid, cls m ≠ 0 ∧ cls m < cls c := by
      cases mid with
      | nil => intro y hy; simp at hy
      | cons k mid =>
        have hk : ¬ cls k = 0 ∧ ¬ cls c ≤ cls k := by simpa [blocked] using hb
        intro y hy
        refine ⟨(h.mids y hy).2 pre s rfl, ?_⟩
        rcases List.mem_cons.1 hy with rfl | hy
        · omega
        · have := h.rise pre s k mid rfl y hy
          omega
    have hmid : mid.reverse.flatMap full = mid.reverse := full_id _ (fun y hy => (h.mids y (by simpa using hy)).1)
    refine ⟨?_, fun m hm => ⟨(h.mids m hm).1, fun _ _ _ => (h.mids m hm).2 pre s rfl⟩, fun pre' s' m' mid' he => ?_, fun pre' s' m' mid' he => ?_⟩
    · have hb0 := h.back
      show ord cls ((mid ++ x :: pre).reverse.flatMap full) = _
      have hb1 : ord cls ((mid ++ s :: pre).reverse.flatMap full) = p := hb0
      rw [List.reverse_append, List.reverse_cons, List.flatMap_append, List.flatMap_append, hmid] at hb1 ⊢
      rw [List.flatMap_cons, List.flatMap_nil, List.append_nil] at hb1 ⊢
      rw [hp]
      have e1 := ord_past cls c mid.reverse (pre.reverse.flatMap full ++ full s) [] (fun m hm => hlow m (by simpa using hm))
      rw [List.append_nil] at e1
      have e2 : pre.reverse.flatMap full ++ (full s ++ [c]) ++ mid.reverse = pre.reverse.flatMap full ++ full s ++ c :: mid.reverse := by simp
      rw [e2, e1, ← List.append_assoc, ← ord_ord_app, hb1, ord_stay cls ho]
    · simp only [Prod.mk.injEq, Option.some.injEq] at he
      obtain ⟨⟨rfl, rfl⟩, rfl⟩ := he
      exact ⟨p, c, rfl, by have := hlow m' (by simp); omega, fun y hy => Nat.le_of_lt (hlow y hy).2⟩
    · simp only [Prod.mk.injEq, Option.some.injEq] at he
      obtain ⟨⟨rfl, rfl⟩, rfl⟩ := he
      exact h.rise _ _ m' mid' rfl

include G in
theorem inv_run : ∀ (l p : List Nat) (σ : St), Inv cls full p σ → (∀ y ∈ l, full y = [y]) → isOrd cls (p ++ l) → Inv cls full (p ++ l) (run cls two l σ) := by
  intro l
  induction l with
  | nil => intro p σ h _ _; rw [List.append_nil]; exact h
  | cons c l ih =>
    intro p σ h hw ho
    have e : p ++ c :: l = p ++ [c] ++ l := by simp
    rw [e] at ho ⊢
    exact ih (p ++ [c]) _ (inv_step cls two G h (hw c (by simp)) (isOrd_app_left cls ho)) (fun y hy => hw y (by simp [hy])) ho

theorem inv_nil : Inv cls full [] (none, []) :=
  ⟨rfl, fun m hm => by simp at hm, fun _ _ _ _ he => by simp at he, fun _ _ _ _ he => by simp at he⟩

include G in
/-- What is composed of what is whole and in order is taken apart, and put into order, to it again. -/
theorem comp_back {d : List Nat} (hw : ∀ y ∈ d, full y = [y]) (ho : isOrd cls d) : ord cls ((comp cls two d).flatMap full) = d := by
  have h := (inv_run cls two G d [] (none, []) (inv_nil cls) hw (by simpa using ho)).back
  simpa [comp] using h

/-- It is not longer. -/
theorem back_len (σ : St) (c : Nat) : (back (step cls two σ c)).length ≤ (back σ).length + 1 := by
  rcases step_cases cls two σ c with e | ⟨pre, s, mid, x, rfl, _, _, e⟩
  · rw [e, back_keep, List.length_cons]; exact Nat.le_refl _
  · rw [e]; simp [back]
theorem run_len : ∀ (l : List Nat) (σ : St), (back (run cls two l σ)).length ≤ (back σ).length + l.length := by
  intro l
  induction l with
  | nil => intro σ; exact Nat.le_refl _
  | cons c l ih =>
    intro σ
    have h1 := ih (step cls two σ c)
    have h2 := back_len cls two σ c
    show (back (run cls two l (step cls two σ c))).length ≤ _
    rw [List.length_cons]
    omega
theorem comp_len (l : List Nat) : (comp cls two l).length ≤ l.length := by
  unfold comp
  rw [List.length_reverse]
  have := run_len cls two l (none, [])
  simpa [back] using this

/-- What is composed once more stays. -/
structure Stab (σ : St) : Prop where
  same : run cls two (back σ).reverse (none, []) = σ
  pre : ∀ pre s mid, σ = (some (pre, s), mid) → cls s = 0 ∧ ∀ y, cls y = 0 → full y ≠ [y] → run cls two (pre.reverse ++ [y]) (none, []) = (some (pre, y), [])

include G in
theorem two_none {s y : Nat} (h : full y ≠ [y]) : two s y = none := by
  cases e : two s y with
  | none => rfl
  | some x => exact absurd (G.second s y x e) h
include G in
theorem comp_not {a b x : Nat} (h : two a b = some x) : full x ≠ [x] := by
  intro e
  have h1 := G.pair a b x h
  rw [e] at h1
  have h2 := G.some_ a
  have h3 := G.some_ b
  have : ([x] : List Nat).length = (full a ++ full b).length := by rw [h1]
  rw [List.length_append] at this
  have h4 : 0 < (full a).length := List.length_pos_iff.2 h2
  have h5 : 0 < (full b).length := List.length_pos_iff.2 h3
  simp at this
  omega
include G in
theorem keep_new (σ : St) {y : Nat} (h : full y ≠ [y]) : step cls two σ y = keep cls σ y := by
  rcases step_cases cls two σ y with e | ⟨pre, s, mid, x, rfl, _, h2, _⟩
  · exact e
  · rw [two_none cls two G h] at h2; cases h2

include G in
theorem stab_step {p : List Nat} {σ : St} (hI : Inv cls full p σ) (h : Stab cls two (full := full) σ) {c : Nat} (hc : full c = [c]) : Stab cls two (full := full) (step cls two σ c) := by
  rcases step_cases cls two σ c with e | ⟨pre, s, mid, x, rfl, hb, h2, e⟩
  · rw [e]
    have hs : run cls two (back (keep cls σ c)).reverse (none, []) = keep cls σ c := by
      rw [back_keep, List.reverse_cons, run_snoc, h.same, e]
    refine ⟨hs, ?_⟩
    rcases σ with ⟨_ | ⟨pre, s⟩, mid⟩
    · by_cases h0 : cls c = 0
      · have e2 : keep cls (none, mid) c = (some (mid, c), []) := by unfold keep; simp [h0]
        rw [e2]
        intro pre' s' mid' he
        simp only [Prod.mk.injEq, Option.some.injEq] at he
        obtain ⟨⟨rfl, rfl⟩, rfl⟩ := he
        refine ⟨h0, fun y hy0 hy => ?_⟩
        have hm : run cls two mid.reverse (none, []) = (none, mid) := h.same
        rw [run_snoc, hm, keep_new cls two G _ hy]
        unfold keep; simp [hy0]
      · have e2 : keep cls (none, mid) c = (none, c :: mid) := by unfold keep; simp [h0]
        rw [e2]
        intro pre' s' mid' he
        simp at he
    · by_cases h0 : cls c = 0
      · have e2 : keep cls (some (pre, s), mid) c = (some (mid ++ s :: pre, c), []) := by unfold keep; simp [h0]
        rw [e2]
        intro pre' s' mid' he
        simp only [Prod.mk.injEq, Option.some.injEq] at he
        obtain ⟨⟨rfl, rfl⟩, rfl⟩ := he
        refine ⟨h0, fun y hy0 hy => ?_⟩
        have hm : run cls two (mid ++ s :: pre).reverse (none, []) = (some (pre, s), mid) := h.same
        rw [run_snoc, hm, keep_new cls two G _ hy]
        unfold keep; simp [hy0]
      · have e2 : keep cls (some (pre, s), mid) c = (some (pre, s), c :: mid) := by unfold keep; simp [h0]
        rw [e2]
        intro pre' s' mid' he
        simp only [Prod.mk.injEq, Option.some.injEq] at he
        obtain ⟨⟨rfl, rfl⟩, rfl⟩ := he
        exact h.pre pre s mid rfl
  · rw [e]
    have hx0 := G.start s c x h2
    have hxn := comp_not cls two G h2
    obtain ⟨hs0, hpre⟩ := h.pre pre s mid rfl
    have hp := G.pair s c x h2
    rw [hc] at hp
    have hlow : ∀ m ∈ mid, cls m ≠ 0 ∧ cls m < cls c := by
      cases mid with
      | nil => intro y hy; simp at hy
      | cons k mid =>
        have hk : ¬ cls k = 0 ∧ ¬ cls c ≤ cls k := by simpa [blocked] using hb
        intro y hy
        refine ⟨(hI.mids y hy).2 pre s rfl, ?_⟩
        rcases List.mem_cons.1 hy with rfl | hy
        · omega
        · have := hI.rise pre s k mid rfl y hy
          omega
    refine ⟨?_, fun pre' s' mid' he => ?_⟩
    · show run cls two (mid ++ x :: pre).reverse (none, []) = (some (pre, x), mid)
      rw [List.reverse_append, List.reverse_cons, run_app, hpre x hx0 hxn]
      have hgo : ∀ (l acc : List Nat), (∀ m ∈ l, cls m ≠ 0 ∧ cls m < cls c ∧ full m = [m]) → run cls two l (some (pre, x), acc) = (some (pre, x), l.reverse ++ acc) := by
        intro l
        induction l with
        | nil => intro acc _; rfl
        | cons m l ih =>
          intro acc hl
          obtain ⟨g1, g2, g3⟩ := hl m (by simp)
          have hstep : step cls two (some (pre, x), acc) m = (some (pre, x), m :: acc) := by
            have hk : keep cls (some (pre, x), acc) m = (some (pre, x), m :: acc) := by unfold keep; simp [g1]
            rcases step_cases cls two (some (pre, x), acc) m with e | ⟨pre', s', mid', z, he, _, h3, _⟩
            · rw [e, hk]
            · exfalso
              simp only [Prod.mk.injEq, Option.some.injEq] at he
              obtain ⟨⟨rfl, rfl⟩, rfl⟩ := he
              have h4 := G.pair x m z h3
              rw [g3, hp, List.append_assoc] at h4
              have h5 := G.ord z
              rw [h4] at h5
              exact isOrd_last cls (a := full s) (x := c) (y := m) h5 ⟨g1, g2⟩
          show run cls two l (step cls two (some (pre, x), acc) m) = _
          rw [hstep, ih (m :: acc) (fun y hy => hl y (by simp [hy])), List.reverse_cons, List.append_assoc]
          rfl
      rw [hgo mid.reverse [] (fun m hm => ⟨(hlow m (by simpa using hm)).1, (hlow m (by simpa using hm)).2, (hI.mids m (by simpa using hm)).1⟩), List.reverse_reverse, List.append_nil]
    · simp only [Prod.mk.injEq, Option.some.injEq] at he
      obtain ⟨⟨rfl, rfl⟩, rfl⟩ := he
      exact ⟨hx0, hpre⟩

include G in
theorem stab_run : ∀ (l p : List Nat) (σ : St), Inv cls full p σ → Stab cls two (full := full) σ → (∀ y ∈ l, full y = [y]) → isOrd cls (p ++ l) → Stab cls two (full := full) (run cls two l σ) := by
  intro l
  induction l with
  | nil => intro p σ _ h _ _; exact h
  | cons c l ih =>
    intro p σ h hS hw ho
    have e : p ++ c :: l = p ++ [c] ++ l := by simp
    rw [e] at ho
    have h1 := isOrd_app_left cls ho
    exact ih (p ++ [c]) _ (inv_step cls two G h (hw c (by simp)) h1) (stab_step cls two G h hS (hw c (by simp))) (fun y hy => hw y (by simp [hy])) ho

include G in
/-- What was so composed stays as it is when it is composed again. -/
theorem comp_again {d : List Nat} (hw : ∀ y ∈ d, full y = [y]) (ho : isOrd cls d) : comp cls two (comp cls two d) = comp cls two d := by
  have h := stab_run cls two G d [] (none, []) (inv_nil cls) ⟨rfl, fun _ _ _ he => by simp at he⟩ hw (by simpa using ho)
  have h2 := h.same
  unfold comp
  rw [h2]

/-- Where a number that starts begins the second of two lists both can be composed alone. -/
theorem keep_front (q : List Nat) (pre : List Nat) (s : Nat) (mid : List Nat) (c : Nat) : keep cls (some (pre ++ q, s), mid) c = (match keep cls (some (pre, s), mid) c with
    | (some (p, t), m) => (some (p ++ q, t), m)
    | σ => σ) := by
  unfold keep
  by_cases h : cls c = 0 <;> simp [h]
theorem run_front (q : List Nat) : ∀ (l pre : List Nat) (s : Nat) (mid : List Nat), ∃ p t m, run cls two l (some (pre, s), mid) = (some (p, t), m) ∧ run cls two l (some (pre ++ q, s), mid) = (some (p ++ q, t), m) := by
  intro l
  induction l with
  | nil => intro pre s mid; exact ⟨pre, s, mid, rfl, rfl⟩
  | cons c l ih =>
    intro pre s mid
    have key : ∃ p t m, step cls two (some (pre, s), mid) c = (some (p, t), m) ∧ step cls two (some (pre ++ q, s), mid) c = (some (p ++ q, t), m) := by
      have hk : ∃ p t m, keep cls (some (pre, s), mid) c = (some (p, t), m) ∧ keep cls (some (pre ++ q, s), mid) c = (some (p ++ q, t), m) := by
        unfold keep
        by_cases h : cls c = 0
        · exact ⟨mid ++ s :: pre, c, [], by simp [h], by simp [h]⟩
        · exact ⟨pre, s, c :: mid, by simp [h], by simp [h]⟩
      unfold step
      cases hb : blocked cls mid c with
      | true => simpa [hb] using hk
      | false =>
        cases h2 : two s c with
        | none => simpa [hb, h2] using hk
        | some x => exact ⟨pre, x, mid, by simp [hb, h2], by simp [hb, h2]⟩
    obtain ⟨p, t, m, e1, e2⟩ := key
    obtain ⟨p', t', m', e3, e4⟩ := ih p t m
    exact ⟨p', t', m', by show run cls two l (step cls two _ c) = _; rw [e1]; exact e3, by show run cls two l (step cls two _ c) = _; rw [e2]; exact e4⟩
theorem comp_parts (a : List Nat) (z : Nat) (b : List Nat) (h0 : cls z = 0) (h2 : ∀ s, two s z = none) : comp cls two (a ++ z :: b) = comp cls two a ++ comp cls two (z :: b) := by
  unfold comp
  rw [run_app]
  generalize run cls two a (none, []) = σ
  have h1 : run cls two (z :: b) σ = run cls two b (some (back σ, z), []) := by
    show run cls two b (step cls two σ z) = _
    congr 1
    rcases step_cases cls two σ z with e | ⟨pre, s, mid, x, rfl, _, h3, _⟩
    · rw [e]
      rcases σ with ⟨_ | ⟨pre, s⟩, mid⟩ <;> unfold keep back <;> simp [h0]
    · rw [h2] at h3; cases h3
  have h4 : run cls two (z :: b) (none, []) = run cls two b (some ([], z), []) := by
    show run cls two b (step cls two (none, []) z) = _
    congr 1
    show keep cls (none, []) z = _
    unfold keep; simp [h0]
  obtain ⟨p, t, m, e1, e2⟩ := run_front cls two (back σ) b [] z []
  rw [List.nil_append] at e2
  rw [h1, h4, e1, e2]
  unfold back
  simp
/-- Which characters a full decomposition is composed to again. -/
theorem back_from (P : Nat → Prop) (hP : ∀ s c x, two s c = some x → P x) : ∀ (l : List Nat) (σ : St), (∀ y ∈ l, P y) → (∀ y ∈ back σ, P y) → ∀ y ∈ back (run cls two l σ), P y := by
  intro l
  induction l with
  | nil => exact fun _ _ h => h
  | cons c l ih =>
    intro σ hl hσ
    refine ih (step cls two σ c) (fun y hy => hl y (by simp [hy])) ?_
    rcases step_cases cls two σ c with e | ⟨pre, s, mid, x, rfl, _, h2, e⟩
    · rw [e, back_keep]
      intro y hy
      rcases List.mem_cons.1 hy with rfl | hy
      · exact hl y (by simp)
      · exact hσ y hy
    · rw [e]
      intro y hy
      have hy' : y ∈ mid ++ x :: pre := hy
      rw [List.mem_append, List.mem_cons] at hy'
      rcases hy' with h | rfl | h
      · exact hσ y (by show y ∈ mid ++ s :: pre; simp [h])
      · exact hP s c y h2
      · exact hσ y (by show y ∈ mid ++ s :: pre; simp [h])
/-- A character that no pair makes, and that is decomposed, isn't what its full decomposition is composed to. -/
theorem comp_full_no {x : Nat} {l : List Nat} (h1 : ∀ y ∈ l, y ≠ x) (h2 : ∀ a b, two a b ≠ some x) : comp cls two l ≠ [x] := by
  intro e
  have h := back_from cls two (· ≠ x) (fun s c z hz he => h2 s c (he ▸ hz)) l (none, []) h1 (fun y hy => by simp [back] at hy)
  unfold comp at e
  have e2 : back (run cls two l (none, [])) = [x] := by rw [← List.reverse_reverse (back _), e]; rfl
  exact h x (by rw [e2]; simp) rfl
theorem comp_one (x : Nat) : comp cls two [x] = [x] := by
  show (back (keep cls (none, []) x)).reverse = [x]
  rw [back_keep]; rfl
theorem none_marks : ∀ (l : List Nat) (σ : St), (σ.1 = none → ∀ y ∈ σ.2, cls y ≠ 0) → (run cls two l σ).1 = none → ∀ y ∈ (run cls two l σ).2, cls y ≠ 0 := by
  intro l
  induction l with
  | nil => exact fun _ h => h
  | cons c l ih =>
    intro σ h
    refine ih (step cls two σ c) ?_
    rcases step_cases cls two σ c with e | ⟨pre, s, mid, x, rfl, _, _, e⟩
    · rw [e]
      rcases σ with ⟨_ | ⟨pre, s⟩, mid⟩
      · unfold keep
        by_cases h0 : cls c = 0
        · simp [h0]
        · simp only [if_neg h0]
          intro _ y hy
          rcases List.mem_cons.1 hy with rfl | hy
          · exact h0
          · exact h rfl y hy
      · unfold keep
        by_cases h0 : cls c = 0 <;> simp [h0]
    · rw [e]; simp
theorem comp_two {l : List Nat} {a b x : Nat} (h : comp cls two l = [a]) (ha : cls a = 0) (h2 : two a b = some x) : comp cls two (l ++ [b]) = [x] := by
  have hm := none_marks cls two l (none, []) (fun _ y hy => by simp at hy)
  unfold comp at h ⊢
  rw [run_snoc]
  have e : back (run cls two l (none, [])) = [a] := by rw [← List.reverse_reverse (back _), h]; rfl
  generalize run cls two l (none, []) = σ at e hm ⊢
  rcases σ with ⟨_ | ⟨pre, s⟩, mid⟩
  · have e1 : mid = [a] := e
    exact absurd ha (hm rfl a (by rw [e1]; simp))
  · have e1 : mid ++ s :: pre = [a] := e
    have e2 : mid = [] ∧ s = a ∧ pre = [] := by
      cases mid with
      | nil => simpa using e1
      | cons m mid => simp at e1
    obtain ⟨rfl, rfl, rfl⟩ := e2
    unfold step blocked
    simp [h2, back]

end Go.Proofs.YthdhlcafomhdbaaDoor.Cmpr
