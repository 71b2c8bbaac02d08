/- What the tables say of one another. -/
import Derived.Test.YthkbjbbffkgpfaaUcq
namespace Go.Proofs.Ythkbjbbffkgpfaa
open Go.RowKit

/-- A number worked out ahead of its use. -/
def force {α : Type} (n : Nat) (k : Nat → α) : α := match n with
  | 0 => k 0
  | m + 1 => k (m + 1)
theorem force_eq {α : Type} (n : Nat) (k : Nat → α) : force n k = k n := by cases n <;> rfl

def f5 (o : Nat) (l : List UInt8) : Nat := num ((l.drop o).take 5)
theorem f5_fld (l : List UInt8) (size i o : Nat) : f5 o (l.drop (i * size)) = fld l size i o 5 := by unfold f5 fld; rw [List.drop_drop]
def isC (l : List UInt8) : Bool := match l.drop 15 with
  | b :: _ => Nat.beq b.toNat 99
  | [] => false
theorem isC_iff (l : List UInt8) (i : Nat) : isC (l.drop (i * 16)) = true ↔ l[i * 16 + 15]? = some 99 := by
  unfold isC
  rw [List.drop_drop]
  by_cases h : i * 16 + 15 < l.length
  · rw [List.drop_eq_getElem_cons h, List.getElem?_eq_getElem h]
    simp only [Nat.beq_eq, Option.some.injEq]
    constructor
    · intro e; exact UInt8.toNat_inj.1 e
    · rintro e; rw [e]; rfl
  · rw [List.drop_eq_nil_of_le (by omega), List.getElem?_eq_none (by omega)]
    simp

def rowsK (p : List UInt8 → Bool) (f : List UInt8 → Nat) (size : Nat) : Nat → List UInt8 → (List Nat → Bool) → Bool
  | 0, _, k => k []
  | n + 1, l, k => bif p l then force (f l) fun x => rowsK p f size n (l.drop size) fun r => k (x :: r) else rowsK p f size n (l.drop size) k
theorem rowsK_eq (p : List UInt8 → Bool) (f : List UInt8 → Nat) (size : Nat) : ∀ (n : Nat) (l : List UInt8) (k : List Nat → Bool),
    ∃ L : List Nat, rowsK p f size n l k = k L ∧ ∀ x, x ∈ L ↔ ∃ i, i < n ∧ p (l.drop (i * size)) = true ∧ f (l.drop (i * size)) = x
  | 0, l, k => ⟨[], rfl, fun x => by simp⟩
  | n + 1, l, k => by
    unfold rowsK
    have hsplit : ∀ (P : List UInt8 → Prop), (∃ i, i < n + 1 ∧ P (l.drop (i * size))) ↔ P l ∨ ∃ i, i < n ∧ P ((l.drop size).drop (i * size)) := fun P => by
      constructor
      · rintro ⟨i, hi, h⟩
        cases i with
        | zero => left; simpa using h
        | succ i => right; exact ⟨i, by omega, by rwa [List.drop_drop, Nat.add_comm size, ← Nat.succ_mul]⟩
      · rintro (h | ⟨i, hi, h⟩)
        · exact ⟨0, by omega, by simpa using h⟩
        · exact ⟨i + 1, by omega, by rwa [List.drop_drop, Nat.add_comm size, ← Nat.succ_mul] at h⟩
    cases hp : p l with
    | true =>
      obtain ⟨L, h1, h2⟩ := rowsK_eq p f size n (l.drop size) (fun r => k (f l :: r))
      refine ⟨f l :: L, by rw [cond_true, force_eq, h1], fun x => ?_⟩
      rw [hsplit (fun l => p l = true ∧ f l = x), List.mem_cons, h2 x, hp]
      constructor
      · rintro (h | h)
        · exact .inl ⟨rfl, h.symm⟩
        · exact .inr h
      · rintro (h | h)
        · exact .inl h.2.symm
        · exact .inr h
    | false =>
      obtain ⟨L, h1, h2⟩ := rowsK_eq p f size n (l.drop size) k
      refine ⟨L, by rw [cond_false, h1], fun x => ?_⟩
      rw [hsplit (fun l => p l = true ∧ f l = x), h2 x, hp]
      constructor
      · exact .inr
      · rintro (h | h)
        · exact absurd h.1 (by decide)
        · exact h

/-- A tree of numbers: all that is asked is what it finds. -/
inductive Tr where
  | leaf : Tr
  | node (l : Tr) (v : Nat) (r : Tr) : Tr
def Tr.has (x : Nat) : Tr → Prop
  | .leaf => False
  | .node l v r => x = v ∨ l.has x ∨ r.has x
def Tr.find (x : Nat) : Tr → Bool
  | .leaf => false
  | .node l v r => bif Nat.beq x v then true else bif Nat.blt x v then l.find x else r.find x
theorem Tr.find_has (x : Nat) : ∀ t : Tr, t.find x = true → t.has x
  | .leaf, h => Bool.noConfusion h
  | .node l v r, h => by
    unfold Tr.find at h
    cases h1 : Nat.beq x v with
    | true => exact .inl (Nat.eq_of_beq_eq_true h1)
    | false =>
      rw [h1, cond_false] at h
      cases h2 : Nat.blt x v with
      | true => rw [h2, cond_true] at h; exact .inr (.inl (Tr.find_has x l h))
      | false => rw [h2, cond_false] at h; exact .inr (.inr (Tr.find_has x r h))
def treeK : Nat → List Nat → (Tr → List Nat → Bool) → Bool
  | 0, L, k => k .leaf L
  | d + 1, L, k => treeK d L fun l L1 => match L1 with
    | [] => k l []
    | v :: L2 => treeK d L2 fun r L3 => k (.node l v r) L3
theorem treeK_eq : ∀ (d : Nat) (L : List Nat) (k : Tr → List Nat → Bool),
    ∃ (t : Tr) (L' : List Nat), treeK d L k = k t L' ∧ (∀ v, t.has v → v ∈ L) ∧ (∀ v, v ∈ L' → v ∈ L)
  | 0, L, k => ⟨.leaf, L, rfl, fun v h => absurd h id, fun v h => h⟩
  | d + 1, L, k => by
    unfold treeK
    obtain ⟨l, L1, h1, h2, h3⟩ := treeK_eq d L (fun l L1 => match L1 with
      | [] => k l []
      | v :: L2 => treeK d L2 fun r L3 => k (.node l v r) L3)
    rw [h1]
    cases L1 with
    | nil => exact ⟨l, [], rfl, h2, fun v h => absurd h (by simp)⟩
    | cons v L2 =>
      obtain ⟨r, L3, g1, g2, g3⟩ := treeK_eq d L2 (fun r L3 => k (.node l v r) L3)
      refine ⟨.node l v r, L3, g1, fun x hx => ?_, fun x hx => h3 x (List.mem_cons_of_mem _ (g3 x hx))⟩
      rcases hx with rfl | hx | hx
      · exact h3 _ (List.mem_cons_self ..)
      · exact h2 x hx
      · exact h3 x (List.mem_cons_of_mem _ (g2 x hx))

/-- A test of each row. -/
def allRows (p : List UInt8 → Bool) (size : Nat) : Nat → List UInt8 → Bool
  | 0, _ => true
  | n + 1, l => bif p l then allRows p size n (l.drop size) else false
theorem allRows_at (p : List UInt8 → Bool) (size : Nat) : ∀ (n : Nat) (l : List UInt8) (i : Nat), allRows p size n l = true → i < n → p (l.drop (i * size)) = true
  | 0, _, _, _, h => absurd h (Nat.not_lt_zero _)
  | n + 1, l, i, h, hi => by
    unfold allRows at h
    cases hp : p l with
    | false => rw [hp] at h; exact Bool.noConfusion h
    | true =>
      rw [hp, cond_true] at h
      cases i with
      | zero => simpa using hp
      | succ i =>
        have := allRows_at p size n (l.drop size) i h (by omega)
        rwa [List.drop_drop, Nat.add_comm size, ← Nat.succ_mul] at this

def trip (a b c : Nat) : Nat := (a * 33554432 + b) * 33554432 + c
theorem trip_inj {a b c a' b' c' : Nat} (h1 : b < 33554432) (h2 : c < 33554432) (h3 : b' < 33554432) (h4 : c' < 33554432) (h : trip a b c = trip a' b' c') : a = a' ∧ b = b' ∧ c = c' := by
  unfold trip at h
  omega
end Go.Proofs.Ythkbjbbffkgpfaa
