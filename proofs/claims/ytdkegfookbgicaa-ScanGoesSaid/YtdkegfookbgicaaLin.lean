/- A region that draws its order and makes memory in several chains at once (append(append([]byte{}, x...), c) many times in one statement): each operation's value owns blocks, takes over those of the values that it is made of, and touches no others: then any order is as good as another, and none needs to be walked. -/
import Derived.Test.YtdkegfookbgicaaPir
namespace Go.Proofs.Ytdkegfookbgicaa
open Go.RowKit

/-- From w to w' memory was made; of what was there only blocks of X may have been written. -/
structure Fx (X : Nat → Prop) (w w' : World) : Prop where
  os : w'.os = w.os
  tape : w'.tape = w.tape
  output : w'.output = w.output
  size : w.heap.size ≤ w'.heap.size
  block : ∀ i, i < w.heap.size → ¬ X i → w'.heap[i]? = w.heap[i]?

theorem Fx.refl (X : Nat → Prop) (w : World) : Fx X w w := ⟨rfl, rfl, rfl, Nat.le_refl _, fun _ _ _ => rfl⟩
theorem Fx.trans {X : Nat → Prop} {a b c : World} (h : Fx X a b) (h2 : Fx X b c) : Fx X a c :=
  ⟨h2.os.trans h.os, h2.tape.trans h.tape, h2.output.trans h.output, Nat.le_trans h.size h2.size, fun i hi h3 => by
    have := h.size
    rw [h2.block i (by omega) h3, h.block i hi h3]⟩
theorem kept_fx (X : Nat → Prop) : Kept (Fx X) := ⟨Fx.refl X, fun _ _ _ => Fx.trans⟩
theorem Fx.of_up {X : Nat → Prop} {w w' : World} (h : Up w w') : Fx X w w' := ⟨h.os, h.tape, h.output, h.size, fun i hi _ => h.block i hi⟩
theorem Fx.rd {X : Nat → Prop} {w w' : World} {A : Option Addr} {c : Nat} {xs : List Value} (h : Rd w A c xs) (hf : Fx X w w') (hne : 0 < c → ∀ a, A = some a → ¬ X a.block) : Rd w' A c xs := by
  refine ⟨h.fit, h.max, fun hc => ?_, h.nil, fun a ha j u hj => ?_⟩
  · obtain ⟨a, ha, hb⟩ := h.ad hc
    exact ⟨a, ha, Nat.lt_of_lt_of_le hb hf.size⟩
  · have hlen : 0 < c := by
      have := (List.getElem?_eq_some_iff.1 hj).1
      have := h.fit
      omega
    obtain ⟨a', ha', hb⟩ := h.ad hlen
    rw [ha] at ha'
    injection ha' with e
    subst e
    refine (World.cell?_of_block (w := w) (hf.block _ ?_ ?_)).trans (h.cell a ha j u hj)
    · rw [addr_block]; exact hb
    · rw [addr_block]; exact hne hlen a ha

section
variable {P : Program} {ops : Array Oper} {Q : Exit → Act → World → Prop}

/-! ### What only computes or reads is taken first -/
def okTk (ops : Array Oper) : List Nat → Array Bool → Bool
  | [], _ => true
  | i :: π, listed => (Region.ready .any ops listed).contains i && Region.free .any ops listed i && okTk ops π (listed.setIfInBounds i true)
def tkEnd : List Nat → Array Bool → Array Bool
  | [], listed => listed
  | i :: π, listed => tkEnd π (listed.setIfInBounds i true)
def wpTk (R : World → World → Prop) (P : Program) (ops : Array Oper) (E : Act → World → Prop) : List Nat → Act → World → Prop
  | [], a, w => E a w
  | i :: π, a, w => ∃ o, ops[i]? = some o ∧
      if Region.wanted o (yielded ops a.tmps) = true then ∃ v, (∀ w', R w w' → (execOp a.eval o).run P w' = .ok (.value v) w') ∧ wpTk R P ops E π (a.put o.dst v) w
      else wpTk R P ops E π (a.put o.dst undef) w

theorem tk_sound {R : World → World → Prop} {E : Act → World → Prop} {n : Nat} (hR : Kept R) (hs : Region.noSelect ops = true) (hQ : ∀ c a d v w, Q (.panic c) (Act.put a d v) w → Q (.panic c) a w) :
    ∀ (π : List Nat) (listed : Array Bool) (a : Act) (w : World), okTk ops π listed = true → (∀ a w, E a w → wpAnyH P .any ops Q (R w) n (tkEnd π listed) a w) → wpTk R P ops E π a w → wpAnyH P .any ops Q (R w) (π.length + n) listed a w
  | [], listed, a, w, _, hE, h => by
    have := hE a w h
    simpa [tkEnd] using this
  | i :: π, listed, a, w, hB, hE, h => by
    obtain ⟨o, ho, h⟩ := h
    unfold okTk at hB
    simp only [Bool.and_eq_true] at hB
    rw [show (i :: π).length + n = (π.length + n) + 1 by simp only [List.length_cons]; omega]
    by_cases hw : Region.wanted o (yielded ops a.tmps) = true
    · rw [if_pos hw] at h
      obtain ⟨v, hv, h⟩ := h
      exact wpAnyH_take ho hs hB.1.2 hB.1.1 (fun c a w h => hQ c a _ _ w h) (.inl ⟨hw, hv⟩) (hR.refl w) (tk_sound hR hs hQ π _ _ _ hB.2 hE h)
    · rw [if_neg hw] at h
      have hw' : Region.wanted o (yielded ops a.tmps) = false := by simpa using hw
      exact wpAnyH_take ho hs hB.1.2 hB.1.1 (fun c a w h => hQ c a _ _ w h) (.inr ⟨hw', rfl⟩) (hR.refl w) (tk_sound hR hs hQ π _ _ _ hB.2 hE h)

/-! ### The others: each takes over the blocks of what it is made of -/
/-- An operation that is left. -/
def LP (ops : Array Oper) (L0 : Array Bool) (j : Nat) : Prop := j < ops.size ∧ L0.getD j true = false
instance (L0 : Array Bool) (j : Nat) : Decidable (LP ops L0 j) := by unfold LP; exact inferInstance

def okLin (ops : Array Oper) (L0 : Array Bool) (cons : Nat → List Nat) (ds : List (Nat × Tmp)) : Bool :=
  decide (L0.size = ops.size) &&
  ((List.range ops.size).all fun j => match ops[j]? with
    | none => false
    | some o => (o.after.all fun e => !Region.binds .any e || decide (e.on < j)) &&
      (!decide (LP ops L0 j) || (o.guard.isNone &&
        ((cons j).all fun i => decide (ops.size ≤ i) || (decide (LP ops L0 i) && o.after.any fun e => Region.binds .any e && e.on == i)) &&
        ((List.range ops.size).all fun j' => j' == j || !decide (LP ops L0 j') || (cons j).all fun i => !(cons j').contains i) &&
        (match o.dst with | none => true | some t => ds.contains (j, t)))) ) &&
  (ds.all fun p => decide (LP ops L0 p.1) && (ops[p.1]?).any (fun o => o.dst == some p.2) && ds.all fun q => q.1 == p.1 || q.2 != p.2)

/-- What was done of an operation or a thing that was there. -/
def Dn (ops : Array Oper) (L0 listed : Array Bool) (i : Nat) : Prop := ops.size ≤ i ∨ (LP ops L0 i ∧ listed.getD i false = true)
def Lv (ops : Array Oper) (L0 listed : Array Bool) (cons : Nat → List Nat) (i : Nat) : Prop := ∀ j, LP ops L0 j → i ∈ cons j → listed.getD j false = false

structure LinInv (ops : Array Oper) (L0 : Array Bool) (cons : Nat → List Nat) (Φ : Nat → Value → List Nat → World → Prop) (a0 : Act) (w0 : World) (X : Nat → Prop) (listed : Array Bool) (a : Act) (w : World) (g : Nat → Value) (f : Nat → List Nat) : Prop where
  size : listed.size = ops.size
  base : ∀ j, j < ops.size → ¬ LP ops L0 j → listed.getD j false = true
  defers : a.defers = a0.defers
  tsize : a.tmps.size = a0.tmps.size
  slot0 : ∀ t, (∀ j o, LP ops L0 j → listed.getD j false = true → ops[j]? = some o → o.dst ≠ some t) → a.tmps[t]? = a0.tmps[t]?
  slot1 : ∀ j o t, LP ops L0 j → listed.getD j false = true → ops[j]? = some o → o.dst = some t → t < a0.tmps.size → a.tmps[t]? = some (g j)
  live : ∀ i, Dn ops L0 listed i → Lv ops L0 listed cons i → Φ i (g i) (f i) w ∧ ∀ b ∈ f i, b < w.heap.size ∧ (w0.heap.size ≤ b ∨ X b)
  apart : ∀ i i', Dn ops L0 listed i → Lv ops L0 listed cons i → Dn ops L0 listed i' → Lv ops L0 listed cons i' → i ≠ i' → ∀ b ∈ f i, b ∉ f i'
  fx : Fx X w0 w

/-- What an operation leaves. -/
def LinP (cons : Nat → List Nat) (Φ : Nat → Value → List Nat → World → Prop) (j : Nat) (o : Oper) (a : Act) (w : World) (f : Nat → List Nat) (a' : Act) (w' : World) : Prop :=
  ∃ v fs, a' = a.put o.dst v ∧ Φ j v fs w' ∧ (∀ b ∈ fs, b < w'.heap.size ∧ (w.heap.size ≤ b ∨ ∃ i ∈ cons j, b ∈ f i)) ∧ Fx (fun b => ∃ i ∈ cons j, b ∈ f i) w w'

theorem put_tmps_ne (a : Act) (d : Option Tmp) (v : Value) (t : Nat) (h : d ≠ some t) : (a.put d v).tmps[t]? = a.tmps[t]? := by
  cases d with
  | none => rfl
  | some u =>
    simp only [Act.put]
    rw [Array.getElem?_setIfInBounds_ne (fun e => h (by rw [e]))]
theorem put_tmps_eq (a : Act) (v : Value) (t : Nat) (h : t < a.tmps.size) : (a.put (some t) v).tmps[t]? = some v := by
  simp only [Act.put]
  rw [Array.getElem?_setIfInBounds_self_of_lt h]
theorem put_size (a : Act) (d : Option Tmp) (v : Value) : (a.put d v).tmps.size = a.tmps.size := by
  cases d <;> simp [Act.put]
theorem put_dfs (a : Act) (d : Option Tmp) (v : Value) : (a.put d v).defers = a.defers := by
  cases d <;> rfl
theorem getD_set_self {l : Array Bool} {j : Nat} (h : j < l.size) (d : Bool) : (l.setIfInBounds j true).getD j d = true := by
  simp [Array.getD_eq_getD_getElem?, h]

variable {L0 : Array Bool} {cons : Nat → List Nat} {Φ : Nat → Value → List Nat → World → Prop} {a0 : Act} {w0 : World} {X : Nat → Prop} {ds : List (Nat × Tmp)}

/-- All the slots filled. -/
def fillD (a0 : Act) (ds : List (Nat × Tmp)) (g : Nat → Value) : Act := ds.foldl (fun a p => a.put (some p.2) (g p.1)) a0

theorem fillD_size (g : Nat → Value) : ∀ (ds : List (Nat × Tmp)) (a : Act), (fillD a ds g).tmps.size = a.tmps.size ∧ (fillD a ds g).defers = a.defers
  | [], _ => ⟨rfl, rfl⟩
  | p :: ds, a => by
    have := fillD_size g ds (a.put (some p.2) (g p.1))
    rw [put_size, put_dfs] at this
    exact this
theorem fillD_ne (g : Nat → Value) (t : Nat) : ∀ (ds : List (Nat × Tmp)) (a : Act), (∀ p ∈ ds, p.2 ≠ t) → (fillD a ds g).tmps[t]? = a.tmps[t]?
  | [], _, _ => rfl
  | p :: ds, a, h => by
    have := fillD_ne g t ds (a.put (some p.2) (g p.1)) (fun q hq => h q (List.mem_cons_of_mem _ hq))
    rw [put_tmps_ne _ _ _ _ (fun e => h p List.mem_cons_self (Option.some.inj e))] at this
    exact this
theorem fillD_eq (g : Nat → Value) (j t : Nat) : ∀ (ds : List (Nat × Tmp)) (a : Act), t < a.tmps.size → (j, t) ∈ ds → (∀ p ∈ ds, p.2 = t → p.1 = j) → (fillD a ds g).tmps[t]? = some (g j)
  | [], _, _, h, _ => by cases h
  | p :: ds, a, hs, h, hu => by
    show (fillD (a.put (some p.2) (g p.1)) ds g).tmps[t]? = _
    by_cases hm : (j, t) ∈ ds
    · exact fillD_eq g j t ds _ (by rw [put_size]; exact hs) hm (fun q hq => hu q (List.mem_cons_of_mem _ hq))
    · have hp : p = (j, t) := by rcases List.mem_cons.1 h with e | e; exact e.symm; exact absurd e hm
      subst hp
      rw [fillD_ne g t ds _ (fun q hq e => by
        have := hu q (List.mem_cons_of_mem _ hq) e
        obtain ⟨q1, q2⟩ := q
        simp only at this e
        subst this e
        exact hm hq)]
      exact put_tmps_eq _ _ _ hs

structure OkL (ops : Array Oper) (L0 : Array Bool) (cons : Nat → List Nat) (ds : List (Nat × Tmp)) : Prop where
  size : L0.size = ops.size
  lt : ∀ (j : Nat) (o : Oper), ops[j]? = some o → ∀ e ∈ o.after, Region.binds .any e = true → e.on < j
  guard : ∀ (j : Nat) (o : Oper), ops[j]? = some o → LP ops L0 j → o.guard = none
  dep : ∀ (j : Nat) (o : Oper), ops[j]? = some o → LP ops L0 j → ∀ i ∈ cons j, ops.size ≤ i ∨ (LP ops L0 i ∧ ∃ e ∈ o.after, Region.binds .any e = true ∧ e.on = i)
  uniq : ∀ (j j' : Nat), LP ops L0 j → LP ops L0 j' → j' ≠ j → ∀ i ∈ cons j, i ∉ cons j'
  dst : ∀ (j : Nat) (o : Oper) (t : Tmp), ops[j]? = some o → LP ops L0 j → o.dst = some t → (j, t) ∈ ds
  ds1 : ∀ p ∈ ds, LP ops L0 p.1 ∧ ∃ o, ops[p.1]? = some o ∧ o.dst = some p.2
  ds2 : ∀ p ∈ ds, ∀ q ∈ ds, q.2 = p.2 → q.1 = p.1

theorem okLin_spec (h : okLin ops L0 cons ds = true) : OkL ops L0 cons ds := by
  unfold okLin at h
  simp only [Bool.and_eq_true, decide_eq_true_eq, List.all_eq_true, List.mem_range] at h
  obtain ⟨⟨h1, h2⟩, h3⟩ := h
  have get : ∀ (j : Nat) (o : Oper), ops[j]? = some o → _ := fun j o ho => by
    have := h2 j (Array.getElem?_eq_some_iff.1 ho).1
    rw [ho] at this
    simp only [Bool.and_eq_true, Bool.or_eq_true, Bool.not_eq_true', decide_eq_true_eq, decide_eq_false_iff_not, Array.all_eq_true_iff_forall_mem, List.all_eq_true, List.mem_range, Option.isNone_iff_eq_none] at this
    exact this
  refine ⟨h1, fun j o ho e he hb => ?_, fun j o ho hj => ?_, fun j o ho hj i hi => ?_, fun j j' hj hj' hne i hi hi' => ?_, fun j o t ho hj ht => ?_, fun p hp => ?_, fun p hp q hq e => ?_⟩
  · rcases (get j o ho).1 e he with h | h
    · rw [hb] at h; cases h
    · exact h
  · exact ((get j o ho).2.resolve_left (fun h => h hj)).1.1.1
  · rcases ((get j o ho).2.resolve_left (fun h => h hj)).1.1.2 i hi with h | ⟨h, h'⟩
    · exact .inl h
    · obtain ⟨e, he, hb⟩ := Array.any_eq_true'.1 h'
      simp only [Bool.and_eq_true, beq_iff_eq] at hb
      exact .inr ⟨h, e, he, hb.1, hb.2⟩
  · obtain ⟨o, ho⟩ : ∃ o, ops[j]? = some o := ⟨_, Array.getElem?_eq_getElem hj.1⟩
    rcases ((get j o ho).2.resolve_left (fun h => h hj)).1.2 j' hj'.1 with (h | h) | h
    · exact hne (by simpa using h)
    · exact h hj'
    · have := h i hi
      simp at this
      exact this hi'
  · have := ((get j o ho).2.resolve_left (fun h => h hj)).2
    rw [ht] at this
    simpa using this
  · have := h3 p hp
    refine ⟨this.1.1, ?_⟩
    have h4 := this.1.2
    cases ho : ops[p.1]? with
    | none => rw [ho] at h4; simp at h4
    | some o => rw [ho] at h4; exact ⟨o, rfl, by simpa using h4⟩
  · have := (h3 p hp).2 q hq
    simp only [Bool.or_eq_true, beq_iff_eq, bne_iff_ne] at this
    exact this.resolve_right (fun h => h e)

theorem countP_lt {p q : Nat → Bool} {j : Nat} (hpq : ∀ i, q i = true → p i = true) (hp : p j = true) (hq : q j = false) : ∀ l : List Nat, j ∈ l → l.countP q < l.countP p
  | [], h => by cases h
  | x :: l, h => by
    have hle : l.countP q ≤ l.countP p := List.countP_mono_left (fun i _ => hpq i)
    rw [List.countP_cons, List.countP_cons]
    by_cases hx : x = j
    · subst hx
      rw [hp, hq]
      simp
      omega
    · have hm : j ∈ l := by rcases List.mem_cons.1 h with e | e; exact absurd e.symm hx; exact e
      have := countP_lt hpq hp hq l hm
      cases hqx : q x with
      | true => rw [hpq x hqx]; simp; omega
      | false => simp; omega

theorem all_listed (ok : OkL ops L0 cons ds) {listed : Array Bool} (hs : listed.size = ops.size) (hr : Region.ready .any ops listed = []) : ∀ n j, j < n → j < ops.size → listed.getD j false = true
  | 0, _, h, _ => absurd h (Nat.not_lt_zero _)
  | n + 1, j, hj, hlt => by
    refine Decidable.byContradiction fun hh => ?_
    obtain ⟨o, ho⟩ : ∃ o, ops[j]? = some o := ⟨_, Array.getElem?_eq_getElem hlt⟩
    have hm : j ∈ Region.ready .any ops listed := by
      refine mem_ready.2 ⟨?_, o, ho, fun e he hb => ?_⟩
      · have hl : j < listed.size := by omega
        simp [Array.getD_eq_getD_getElem?, hl] at hh ⊢
        exact hh
      · have := ok.lt j o ho e he hb
        exact all_listed ok hs hr n e.on (by omega) (by omega)
    rw [hr] at hm
    cases hm

theorem act_ext {a b : Act} (h1 : ∀ t : Nat, a.tmps[t]? = b.tmps[t]?) (h2 : a.defers = b.defers) : a = b := by
  cases a; cases b
  simp only at h1 h2
  subst h2
  congr 1
  exact Array.ext_getElem? h1

theorem lin_sound (ok : OkL ops L0 cons ds)
    (hstab : ∀ i v fs w w', Φ i v fs w → (∀ b ∈ fs, w'.heap[b]? = w.heap[b]?) → w.heap.size ≤ w'.heap.size → Fx X w0 w → Fx X w0 w' → Φ i v fs w')
    (hstep : ∀ (j : Nat) (o : Oper) (a : Act) (w : World) (g : Nat → Value) (f : Nat → List Nat), ops[j]? = some o → LP ops L0 j → (∀ t : Nat, (∀ p ∈ ds, p.2 ≠ t) → a.tmps[t]? = a0.tmps[t]?) → (∀ i ∈ cons j, ∀ t : Nat, (i, t) ∈ ds → t < a0.tmps.size → a.tmps[t]? = some (g i)) →
      (∀ i ∈ cons j, Φ i (g i) (f i) w) → (∀ i ∈ cons j, ∀ b ∈ f i, b < w.heap.size ∧ (w0.heap.size ≤ b ∨ X b)) → (∀ i ∈ cons j, ∀ i' ∈ cons j, i ≠ i' → ∀ b ∈ f i, b ∉ f i') → Fx X w0 w → Oper.wp P o a w (LinP cons Φ j o a w f) Q)
    (hend : ∀ (w : World) (g : Nat → Value) (f : Nat → List Nat), (∀ i, (ops.size ≤ i ∨ LP ops L0 i) → (∀ j, LP ops L0 j → i ∉ cons j) → Φ i (g i) (f i) w ∧ ∀ b ∈ f i, b < w.heap.size ∧ (w0.heap.size ≤ b ∨ X b)) → Fx X w0 w → Q .normal (fillD a0 ds g) w) :
    ∀ (n : Nat) (listed : Array Bool) (a : Act) (w : World) (g : Nat → Value) (f : Nat → List Nat), LinInv ops L0 cons Φ a0 w0 X listed a w g f → (List.range ops.size).countP (fun j => !listed.getD j true) ≤ n → wpAnyH P .any ops Q (Fx X w0) n listed a w := by
  have fin : ∀ (listed : Array Bool) (a : Act) (w : World) (g : Nat → Value) (f : Nat → List Nat), LinInv ops L0 cons Φ a0 w0 X listed a w g f → Region.ready .any ops listed = [] → Q .normal a w := fun listed a w g f hI hr => by
    have hall := fun j hj => all_listed ok hI.size hr ops.size j hj hj
    have e : a = fillD a0 ds g := by
      refine act_ext (fun t => ?_) (by rw [hI.defers, (fillD_size g ds a0).2])
      by_cases hp : ∃ p ∈ ds, p.2 = t
      · obtain ⟨⟨j, t'⟩, hp, rfl⟩ := hp
        obtain ⟨hj, o, ho, hd⟩ := ok.ds1 _ hp
        by_cases ht : t' < a0.tmps.size
        · rw [hI.slot1 j o t' hj (hall j hj.1) ho hd ht]
          exact (fillD_eq g j t' ds a0 ht hp (fun q hq he => ok.ds2 _ hp q hq he)).symm
        · rw [Array.getElem?_eq_none (by rw [hI.tsize]; exact Nat.not_lt.1 ht), Array.getElem?_eq_none (by rw [(fillD_size g ds a0).1]; exact Nat.not_lt.1 ht)]
      · have hp' : ∀ p ∈ ds, p.2 ≠ t := fun p hm he => hp ⟨p, hm, he⟩
        rw [fillD_ne g t ds a0 hp', hI.slot0 t (fun j o hj _ ho hd => hp' _ (ok.dst j o t ho hj hd) rfl)]
    rw [e]
    exact hend w g f (fun i hi hc => hI.live i (hi.imp id fun h => ⟨h, hall i h.1⟩) (fun j hj hm => absurd hm (hc j hj))) hI.fx
  intro n
  induction n with
  | zero =>
    intro listed a w g f hI hc
    have hr : Region.ready .any ops listed = [] := by
      refine List.eq_nil_iff_forall_not_mem.2 fun j hj => ?_
      obtain ⟨h1, o, ho, _⟩ := mem_ready.1 hj
      have : 0 < (List.range ops.size).countP (fun j => !listed.getD j true) := List.countP_pos_iff.2 ⟨j, List.mem_range.2 (Array.getElem?_eq_some_iff.1 ho).1, by simp [h1]⟩
      omega
    exact ⟨hr, fin listed a w g f hI hr⟩
  | succ n ih =>
    intro listed a w g f hI hc
    refine ⟨fun hr => fin listed a w g f hI hr, fun j hj => ?_⟩
    obtain ⟨h1, o, ho, hdep⟩ := mem_ready.1 hj
    have hlt : j < ops.size := (Array.getElem?_eq_some_iff.1 ho).1
    have hl : j < listed.size := by rw [hI.size]; exact hlt
    have h1' : listed.getD j false = false := by
      simp [Array.getD_eq_getD_getElem?, hl] at h1 ⊢
      exact h1
    have hLP : LP ops L0 j := Decidable.byContradiction fun hh => by
      have := hI.base j hlt hh
      rw [h1'] at this; cases this
    have hdn : ∀ i ∈ cons j, Dn ops L0 listed i := fun i hi => by
      rcases ok.dep j o ho hLP i hi with h | ⟨h, e, he, hb, rfl⟩
      · exact .inl h
      · exact .inr ⟨h, hdep e he hb⟩
    have hlv : ∀ i ∈ cons j, Lv ops L0 listed cons i := fun i hi j' hj' hi' => by
      by_cases hjj : j' = j
      · subst hjj; exact h1'
      · exact absurd hi' (ok.uniq j j' hLP hj' hjj i hi)
    have hst := hstep j o a w g f ho hLP (fun t hp => hI.slot0 t (fun j o hj _ ho hd => hp _ (ok.dst j o t ho hj hd) rfl))
      (fun i hi t hp ht => by
        obtain ⟨hi1, o', ho', hd'⟩ := ok.ds1 _ hp
        rcases hdn i hi with h | h
        · exact absurd hi1.1 (by simp only at *; omega)
        · exact hI.slot1 i o' t h.1 h.2 ho' hd' ht)
      (fun i hi => (hI.live i (hdn i hi) (hlv i hi)).1) (fun i hi => (hI.live i (hdn i hi) (hlv i hi)).2)
      (fun i hi i' hi' hne => hI.apart i i' (hdn i hi) (hlv i hi) (hdn i' hi') (hlv i' hi') hne) hI.fx
    unfold wpOp
    simp only [ho]
    have hw : Region.wanted o (yielded ops a.tmps) = true := by simp [Region.wanted, ok.guard j o ho hLP]
    rw [if_pos hw]
    refine .inl (Oper.wp_mono (fun a' w' hP => ?_) hst)
    obtain ⟨v, fs, rfl, hΦ, hfs, hfx⟩ := hP
    have hfx' : Fx X w0 w' := by
      refine ⟨hfx.os.trans hI.fx.os, hfx.tape.trans hI.fx.tape, hfx.output.trans hI.fx.output, Nat.le_trans hI.fx.size hfx.size, fun k hk hX => ?_⟩
      have := hI.fx.size
      rw [hfx.block k (by omega) (fun ⟨i, hi, hb⟩ => by
        rcases ((hI.live i (hdn i hi) (hlv i hi)).2 k hb).2 with h | h
        · omega
        · exact hX h), hI.fx.block k hk hX]
    refine ⟨hfx', ih _ _ _ (fun i => if i = j then v else g i) (fun i => if i = j then fs else f i) ?_ ?_⟩
    · have hset : ∀ i, i ≠ j → (listed.setIfInBounds j true).getD i false = listed.getD i false := fun i hi => getD_set_ne false (fun e => hi e.symm)
      have hsj : (listed.setIfInBounds j true).getD j false = true := getD_set_self hl false
      have hdn' : ∀ i, i ≠ j → Dn ops L0 (listed.setIfInBounds j true) i → Dn ops L0 listed i := fun i hi h => h.imp id fun h => ⟨h.1, by rw [← hset i hi]; exact h.2⟩
      have hlv' : ∀ i, Lv ops L0 (listed.setIfInBounds j true) cons i → i ∉ cons j ∧ Lv ops L0 listed cons i := fun i h => by
        have hn : i ∉ cons j := fun hm => by have := h j hLP hm; rw [hsj] at this; cases this
        refine ⟨hn, fun j' hj' hm => ?_⟩
        by_cases hjj : j' = j
        · subst hjj; exact absurd hm hn
        · rw [← hset j' hjj]; exact h j' hj' hm
      have old : ∀ i, i ≠ j → Dn ops L0 (listed.setIfInBounds j true) i → Lv ops L0 (listed.setIfInBounds j true) cons i → Φ i (g i) (f i) w' ∧ (∀ b ∈ f i, b < w.heap.size ∧ (w0.heap.size ≤ b ∨ X b)) ∧ ∀ b ∈ f i, ∀ i' ∈ cons j, b ∉ f i' := fun i hi hd hv => by
        have hd1 := hdn' i hi hd
        obtain ⟨hn, hv1⟩ := hlv' i hv
        have hL := hI.live i hd1 hv1
        have hap : ∀ b ∈ f i, ∀ i' ∈ cons j, b ∉ f i' := fun b hb i' hi' => hI.apart i i' hd1 hv1 (hdn i' hi') (hlv i' hi') (fun e => hn (by rw [e]; exact hi')) b hb
        exact ⟨hstab i _ _ w w' hL.1 (fun b hb => hfx.block b (hL.2 b hb).1 (fun ⟨i', hi', hb'⟩ => hap b hb i' hi' hb')) hfx.size hI.fx hfx', hL.2, hap⟩
      refine ⟨by rw [Array.size_setIfInBounds]; exact hI.size, fun i hi hn => ?_, by rw [put_dfs]; exact hI.defers, by rw [put_size]; exact hI.tsize, fun t ht => ?_, fun i o' t hi hli ho' hd ht => ?_, fun i hd hv => ?_, fun i i' hd hv hd' hv' hne b hb => ?_, hfx'⟩
      · have hij : i ≠ j := fun e => hn (by rw [e]; exact hLP)
        rw [hset i hij]; exact hI.base i hi hn
      · rw [put_tmps_ne _ _ _ _ (ht j o hLP hsj ho)]
        refine hI.slot0 t fun i o' hi hli ho' => ?_
        by_cases hij : i = j
        · subst hij; rw [h1'] at hli; cases hli
        · exact ht i o' hi (by rw [hset i hij]; exact hli) ho'
      · by_cases hij : i = j
        · subst hij
          rw [ho] at ho'; injection ho' with e; subst e
          rw [if_pos rfl, hd]
          exact put_tmps_eq _ _ _ (by rw [hI.tsize]; exact ht)
        · rw [if_neg hij, put_tmps_ne _ _ _ _ (fun e => hij (ok.ds2 _ (ok.dst j o t ho hLP e) _ (ok.dst i o' t ho' hi hd) rfl))]
          exact hI.slot1 i o' t hi (by rw [← hset i hij]; exact hli) ho' hd ht
      · by_cases hij : i = j
        · subst hij
          rw [if_pos rfl, if_pos rfl]
          refine ⟨hΦ, fun b hb => ?_⟩
          obtain ⟨h2, h3⟩ := hfs b hb
          refine ⟨h2, ?_⟩
          rcases h3 with h3 | ⟨i', hi', hb'⟩
          · exact .inl (Nat.le_trans hI.fx.size h3)
          · exact ((hI.live i' (hdn i' hi') (hlv i' hi')).2 b hb').2
        · rw [if_neg hij, if_neg hij]
          obtain ⟨q1, q2, _⟩ := old i hij hd hv
          exact ⟨q1, fun b hb => ⟨Nat.lt_of_lt_of_le (q2 b hb).1 hfx.size, (q2 b hb).2⟩⟩
      · by_cases hij : i = j
        · have hij' : i' ≠ j := fun e => hne (hij.trans e.symm)
          rw [if_pos hij] at hb
          rw [if_neg hij']
          obtain ⟨_, q2, q3⟩ := old i' hij' hd' hv'
          intro hb'
          rcases (hfs b hb).2 with h3 | ⟨i0, hi0, hb0⟩
          · have := (q2 b hb').1; omega
          · exact q3 b hb' i0 hi0 hb0
        · rw [if_neg hij] at hb
          obtain ⟨_, q2, q3⟩ := old i hij hd hv
          by_cases hij' : i' = j
          · rw [if_pos hij']
            intro hb'
            rcases (hfs b hb').2 with h3 | ⟨i0, hi0, hb0⟩
            · have := (q2 b hb).1; omega
            · exact q3 b hb i0 hi0 hb0
          · rw [if_neg hij']
            exact hI.apart i i' (hdn' i hij hd) (hlv' i hv).2 (hdn' i' hij' hd') (hlv' i' hv').2 hne b hb
    · have := countP_lt (p := fun i => !listed.getD i true) (q := fun i => !(listed.setIfInBounds j true).getD i true) (j := j) (fun i hi => by
        by_cases hij : j = i
        · subst hij; rw [getD_set_self hl true] at hi; cases hi
        · rw [getD_set_ne true hij] at hi; exact hi) (by show (!listed.getD j true) = true; rw [h1]; rfl) (by show (!(listed.setIfInBounds j true).getD j true) = false; rw [getD_set_self hl true]; rfl) (List.range ops.size) (List.mem_range.2 hlt)
      omega

/-- THE BEGINNING: π: what only computes or reads, taken first; behind it 'lin_go'. -/
theorem wp_region_lin (X : Nat → Prop) (π : List Nat) {id : Nat} {a : Act} {w : World} (hm : P.follows .mixedOrders = true)
    (hB : (Region.noSelect ops && okTk ops π (Array.replicate ops.size false) && decide (π.length ≤ ops.size)) = true)
    (hQ : ∀ c a d v w, Q (.panic c) (Act.put a d v) w → Q (.panic c) a w)
    (h : wpTk (Fx X) P ops (fun a w => wpAnyH P .any ops Q (Fx X w) (ops.size - π.length) (tkEnd π (Array.replicate ops.size false)) a w) π a w.drew) : (Code.region id ops true).wp P Q a w := by
  simp only [Bool.and_eq_true, decide_eq_true_eq] at hB
  refine wp_region_held (S := Fx X w.drew) hm ?_
  have := tk_sound (n := ops.size - π.length) (kept_fx X) hB.1.1 hQ π _ a w.drew hB.1.2 (fun _ _ h => h) h
  rw [Nat.add_sub_cancel' hB.2] at this
  exact this

theorem tk_take {R : World → World → Prop} {E : Act → World → Prop} {i : Nat} {π : List Nat} {a : Act} {w : World} {o : Oper} {v : Value} (ho : opAt i ops.toList = some o) (hw : Region.wanted o (yielded ops a.tmps) = true)
    (hv : ∀ w', R w w' → (execOp a.eval o).run P w' = .ok (.value v) w') (h : wpTk R P ops E π (a.put o.dst v) w) : wpTk R P ops E (i :: π) a w :=
  ⟨o, opAt_get ho, by rw [if_pos hw]; exact ⟨v, hv, h⟩⟩
theorem tk_done {R : World → World → Prop} {E : Act → World → Prop} {a : Act} {w : World} (h : E a w) : wpTk R P ops E [] a w := h

/-- The others, in whatever order. js: which they are. -/
theorem lin_go {n : Nat} (js : List Nat) (cons : Nat → List Nat) (ds : List (Nat × Tmp)) (Φ : Nat → Value → List Nat → World → Prop) (g0 : Nat → Value) (f0 : Nat → List Nat)
    (hB : (okLin ops L0 cons ds && decide ((List.range ops.size).countP (fun j => !L0.getD j true) ≤ n) && (List.range ops.size).all fun j => !decide (LP ops L0 j) || js.contains j) = true)
    (hres : ∀ i, ops.size ≤ i → Φ i (g0 i) (f0 i) w0 ∧ ∀ b ∈ f0 i, b < w0.heap.size ∧ X b)
    (hapart : ∀ i i', ops.size ≤ i → ops.size ≤ i' → i ≠ i' → ∀ b ∈ f0 i, b ∉ f0 i')
    (hstab : ∀ i v fs w w', Φ i v fs w → (∀ b ∈ fs, w'.heap[b]? = w.heap[b]?) → w.heap.size ≤ w'.heap.size → Fx X w0 w → Fx X w0 w' → Φ i v fs w')
    (hstep : ∀ j ∈ js, ∃ o, opAt j ops.toList = some o ∧ ∀ (a : Act) (w : World) (g : Nat → Value) (f : Nat → List Nat), (∀ t : Nat, (∀ p ∈ ds, p.2 ≠ t) → a.tmps[t]? = a0.tmps[t]?) → (∀ i ∈ cons j, ∀ t : Nat, (i, t) ∈ ds → t < a0.tmps.size → a.tmps[t]? = some (g i)) →
      (∀ i ∈ cons j, Φ i (g i) (f i) w) → (∀ i ∈ cons j, ∀ b ∈ f i, b < w.heap.size ∧ (w0.heap.size ≤ b ∨ X b)) → (∀ i ∈ cons j, ∀ i' ∈ cons j, i ≠ i' → ∀ b ∈ f i, b ∉ f i') → Fx X w0 w → Oper.wp P o a w (LinP cons Φ j o a w f) Q)
    (hend : ∀ (w : World) (g : Nat → Value) (f : Nat → List Nat), (∀ i, (ops.size ≤ i ∨ LP ops L0 i) → (∀ j, LP ops L0 j → i ∉ cons j) → Φ i (g i) (f i) w ∧ ∀ b ∈ f i, b < w.heap.size ∧ (w0.heap.size ≤ b ∨ X b)) → Fx X w0 w → Q .normal (fillD a0 ds g) w) :
    wpAnyH P .any ops Q (Fx X w0) n L0 a0 w0 := by
  simp only [Bool.and_eq_true, decide_eq_true_eq] at hB
  obtain ⟨⟨h1, h2⟩, h3⟩ := hB
  have ok := okLin_spec h1
  have no : ∀ i, LP ops L0 i → L0.getD i false = true → False := fun i hi hl => by
    have h := hi.2
    have hs : i < L0.size := by rw [ok.size]; exact hi.1
    simp only [Array.getD_eq_getD_getElem?, Array.getElem?_eq_getElem hs, Option.getD_some] at h hl
    rw [h] at hl; cases hl
  refine lin_sound ok hstab (fun j o a w g f ho hj k1 k2 k3 k4 k5 k6 => ?_) hend n L0 a0 w0 g0 f0 ?_ h2
  · have hm : j ∈ js := by
      have := List.all_eq_true.1 h3 j (List.mem_range.2 hj.1)
      simp only [Bool.or_eq_true, Bool.not_eq_true', decide_eq_false_iff_not] at this
      simpa using this.resolve_left (fun h => h hj)
    obtain ⟨o', ho', hs⟩ := hstep j hm
    have := opAt_get ho'
    rw [ho] at this
    injection this with e
    subst e
    exact hs a w g f k1 k2 k3 k4 k5 k6
  · refine ⟨ok.size, fun j hj hn => ?_, rfl, rfl, fun _ _ => rfl, fun j _ _ hj hl => (no j hj hl).elim, fun i hd _ => ?_, fun i i' hd _ hd' _ hne => ?_, Fx.refl _ _⟩
    · have hs : j < L0.size := by rw [ok.size]; exact hj
      have : ¬ L0.getD j true = false := fun h => hn ⟨hj, h⟩
      simp only [Array.getD_eq_getD_getElem?, Array.getElem?_eq_getElem hs, Option.getD_some, Bool.not_eq_false] at this ⊢
      exact this
    · rcases hd with hd | hd
      · have := hres i hd
        exact ⟨this.1, fun b hb => ⟨(this.2 b hb).1, .inr (this.2 b hb).2⟩⟩
      · exact (no i hd.1 hd.2).elim
    · rcases hd with hd | hd
      · rcases hd' with hd' | hd'
        · exact hapart i i' hd hd' hne
        · exact (no i' hd'.1 hd'.2).elim
      · exact (no i hd.1 hd.2).elim

end
attribute [irreducible] wpTk
end Go.Proofs.Ytdkegfookbgicaa
