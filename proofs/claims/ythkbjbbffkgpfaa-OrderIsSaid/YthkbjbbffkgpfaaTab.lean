/- The characters' tables, out of the program itself. -/
import Derived.Test.YthkbjbbffkgpfaaHex
import Derived.KernelRfl
namespace Go.Proofs.Ythkbjbbffkgpfaa
open Go.RowKit

def strOf : Value → ByteArray
  | .string s => s
  | _ => .empty
def argC (o : Option Oper) (k : Nat) : Value := match o with
  | some o => match o.op with
    | .call c => match c.args[k]? with
      | some (.const v) => v
      | _ => .int .i64 0
    | _ => .int .i64 0
  | none => .int .i64 0
def argV (f : Func) : Value := match f.body with
  | some (.seq _ (.seq (.region _ ops _) _)) => argC (ops[1]?) 0
  | some (.seq _ (.seq (.seq (.region _ ops _) _) _)) => argC (ops[1]?) 0
  | _ => .int .i64 0
noncomputable def clsS : ByteArray := strOf (argV Try.f13)
/-- The keys of all rows, in one pass. -/
def keys : Nat → Nat → List UInt8 → List Nat
  | 0, _, _ => []
  | n + 1, size, l => num (l.take 5) :: keys n size (l.drop size)
def rising : List Nat → Bool
  | a :: b :: r => Nat.blt a b && rising (b :: r)
  | _ => true

theorem cls_size : clsS.data.toList.length = 4656 := by kernel_rfl
theorem cls_rising : rising (keys 388 12 clsS.data.toList) = true := by kernel_rfl
/-- All pairs, in one pass, as one number each. -/
def pairs : Nat → List UInt8 → List Nat
  | 0, _ => []
  | n + 1, l => (num (l.take 5) * 16777216 + num ((l.drop 5).take 5)) :: pairs n (l.drop 15)
/-- The number at a place of row i. -/
def fld (l : List UInt8) (size i o n : Nat) : Nat := num ((l.drop (i * size + o)).take n)
theorem key_fld (l : List UInt8) (size i : Nat) : key l size i = fld l size i 0 5 := by unfold key fld; rw [Nat.add_zero]

theorem keys_get (size : Nat) : ∀ (n : Nat) (l : List UInt8) (i : Nat), i < n → (keys n size l)[i]? = some (key l size i)
  | 0, _, _, h => absurd h (Nat.not_lt_zero _)
  | n + 1, l, 0, _ => by simp [keys, key]
  | n + 1, l, i + 1, h => by
    rw [keys, List.getElem?_cons_succ, keys_get size n (l.drop size) i (by omega)]
    unfold key
    rw [List.drop_drop, Nat.succ_mul, Nat.add_comm]
theorem rising_le : ∀ (L : List Nat), rising L = true → ∀ (i j a b : Nat), i < j → L[i]? = some a → L[j]? = some b → a < b
  | [], _, i, j, a, b, _, ha, _ => by simp at ha
  | [x], _, i, j, a, b, hij, ha, hb => by
    have h1 := (List.getElem?_eq_some_iff.1 hb).1
    simp at h1; omega
  | x :: y :: L, h, i, j, a, b, hij, ha, hb => by
    unfold rising at h
    rw [Bool.and_eq_true] at h
    have hxy : x < y := by simpa [Nat.blt_eq] using h.1
    match i, j, hij with
    | 0, 1, _ =>
      simp at ha hb; omega
    | 0, j + 2, _ =>
      simp only [List.getElem?_cons_zero, Option.some.injEq] at ha
      rw [List.getElem?_cons_succ] at hb
      have := rising_le (y :: L) h.2 0 (j + 1) y b (by omega) (by simp) hb
      omega
    | i + 1, j + 1, hij =>
      rw [List.getElem?_cons_succ] at ha hb
      exact rising_le (y :: L) h.2 i j a b (by omega) ha hb
theorem key_lt {l : List UInt8} {size N : Nat} (h : rising (keys N size l) = true) {i j : Nat} (hij : i < j) (hj : j < N) : key l size i < key l size j :=
  rising_le _ h i j _ _ hij (keys_get size N l i (by omega)) (keys_get size N l j hj)
theorem key_le {l : List UInt8} {size N : Nat} (h : rising (keys N size l) = true) (i j : Nat) (hij : i ≤ j) (hj : j < N) : key l size i ≤ key l size j := by
  by_cases e : i = j
  · subst e; exact Nat.le_refl _
  · exact Nat.le_of_lt (key_lt h (by omega) hj)

/-- How many rows have a key that is not above c. -/
def rank (l : List UInt8) (size c : Nat) : Nat → Nat
  | 0 => 0
  | n + 1 => if key l size n ≤ c then n + 1 else rank l size c n
theorem rank_last {l : List UInt8} {size N : Nat} (_h : rising (keys N size l) = true) (c : Nat) : LastP l size c N (rank l size c N) := by
  have : ∀ n, n ≤ N → LastP l size c n (rank l size c n) := fun n => by
    induction n with
    | zero => intro _; exact ⟨Nat.le_refl _, fun h => absurd h (by unfold rank; omega), fun i _ h => absurd h (Nat.not_lt_zero _)⟩
    | succ n ih =>
      intro hn
      unfold rank
      by_cases hk : key l size n ≤ c
      · rw [if_pos hk]
        exact ⟨Nat.le_refl _, fun _ => hk, fun i h1 h2 => by omega⟩
      · rw [if_neg hk]
        obtain ⟨h1, h2, h3⟩ := ih (by omega)
        refine ⟨by omega, h2, fun i h4 h5 => ?_⟩
        by_cases e : i = n
        · subst e; omega
        · exact h3 i h4 (by omega)
  exact this N (Nat.le_refl _)
theorem last_uniq {l : List UInt8} {size N c r r' : Nat} (h : LastP l size c N r) (h' : LastP l size c N r') : r = r' := by
  obtain ⟨a1, a2, a3⟩ := h
  obtain ⟨b1, b2, b3⟩ := h'
  refine Decidable.byContradiction fun hne => ?_
  by_cases hlt : r < r'
  · have := a3 (r' - 1) (by omega) (by omega)
    have := b2 (by omega)
    omega
  · have := b3 (r - 1) (by omega) (by omega)
    have := a2 (by omega)
    omega

noncomputable def clsL : List UInt8 := clsS.data.toList
/-- A character's class. -/
noncomputable def clsOf (c : Nat) : Nat := if rank clsL 12 c 388 = 0 then 0 else if fld clsL 12 (rank clsL 12 c 388 - 1) 5 5 < c then 0 else fld clsL 12 (rank clsL 12 c 388 - 1) 10 2
theorem pairs_get : ∀ (n : Nat) (l : List UInt8) (i : Nat), i < n → (pairs n l)[i]? = some (key l 15 i * 16777216 + fld l 15 i 5 5)
  | 0, _, _, h => absurd h (Nat.not_lt_zero _)
  | n + 1, l, 0, _ => by simp [pairs, key, fld]
  | n + 1, l, i + 1, h => by
    rw [pairs, List.getElem?_cons_succ, pairs_get n (l.drop 15) i (by omega)]
    unfold key fld
    rw [List.drop_drop, List.drop_drop, Nat.succ_mul, Nat.add_comm (i * 15) 15, Nat.add_assoc, ← Nat.add_assoc 15]
theorem fld5_lt (l : List UInt8) (size i o : Nat) : fld l size i o 5 < 16777216 * 2 := by
  unfold fld
  have h := num_le ((l.drop (i * size + o)).take 5)
  have h2 : ((l.drop (i * size + o)).take 5).length ≤ 5 := by rw [List.length_take]; omega
  have h3 : 16 ^ ((l.drop (i * size + o)).take 5).length ≤ 16 ^ 5 := Nat.pow_le_pow_right (by decide) h2
  omega
theorem pair_lt {l : List UInt8} {N : Nat} (h : rising (pairs N l) = true) {i j : Nat} (hij : i < j) (hj : j < N) : key l 15 i * 16777216 + fld l 15 i 5 5 < key l 15 j * 16777216 + fld l 15 j 5 5 :=
  rising_le _ h i j _ _ hij (pairs_get N l i (by omega)) (pairs_get N l j hj)

end Go.Proofs.Ythkbjbbffkgpfaa
