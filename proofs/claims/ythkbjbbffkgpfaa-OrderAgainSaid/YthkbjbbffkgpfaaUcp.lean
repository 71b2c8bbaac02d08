/- The document's Pair. -/
import Derived.Test.YthkbjbbffkgpfaaUct
namespace Go.Proofs.Ythkbjbbffkgpfaa
open Go.RowKit

def climbs : List Nat → Bool
  | a :: b :: r => Nat.ble a b && climbs (b :: r)
  | _ => true
theorem climbs_le : ∀ (L : List Nat), climbs L = true → ∀ (i j a b : Nat), i ≤ j → L[i]? = some a → L[j]? = some b → a ≤ b
  | [], _, i, j, a, b, _, ha, _ => by simp at ha
  | [x], _, i, j, a, b, hij, ha, hb => by
    have h1 := (List.getElem?_eq_some_iff.1 hb).1
    have h2 := (List.getElem?_eq_some_iff.1 ha).1
    simp at h1 h2
    subst h1 h2
    rw [ha] at hb
    exact Nat.le_of_eq (Option.some.inj hb)
  | x :: y :: L, h, i, j, a, b, hij, ha, hb => by
    unfold climbs at h
    rw [Bool.and_eq_true] at h
    have hxy : x ≤ y := by simpa [Nat.ble_eq] using h.1
    match i, j, hij with
    | 0, 0, _ =>
      rw [ha] at hb
      exact Nat.le_of_eq (Option.some.inj hb)
    | 0, j + 1, _ =>
      simp only [List.getElem?_cons_zero, Option.some.injEq] at ha
      rw [List.getElem?_cons_succ] at hb
      have := climbs_le (y :: L) h.2 0 j y b (by omega) (by simp) hb
      omega
    | i + 1, j + 1, hij =>
      rw [List.getElem?_cons_succ] at ha hb
      exact climbs_le (y :: L) h.2 i j a b (by omega) ha hb
/-- What a and b are composed to: some row says so, or none does. -/
def PairP (l : List UInt8) (a b x : Nat) (ok : Bool) : Prop :=
  (ok = true ∧ ∃ i, i < 941 ∧ key l 15 i = a ∧ fld l 15 i 5 5 = b ∧ fld l 15 i 10 5 = x) ∨ (ok = false ∧ x = 0 ∧ ∀ i, i < 941 → key l 15 i = a → fld l 15 i 5 5 ≠ b)
end Go.Proofs.Ythkbjbbffkgpfaa
