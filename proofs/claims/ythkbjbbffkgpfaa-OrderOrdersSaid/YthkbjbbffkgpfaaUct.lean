/- The document's Second. -/
import Derived.Test.YthkbjbbffkgpfaaUcs
namespace Go.Proofs.Ythkbjbbffkgpfaa
open Go.RowKit

/-- All second ones, in one pass. -/
def seconds : Nat → List UInt8 → List Nat
  | 0, _ => []
  | n + 1, l => num ((l.drop 5).take 5) :: seconds n (l.drop 15)
theorem seconds_get : ∀ (n : Nat) (l : List UInt8) (i : Nat), i < n → (seconds n l)[i]? = some (fld l 15 i 5 5)
  | 0, _, _, h => absurd h (Nat.not_lt_zero _)
  | n + 1, l, 0, _ => by simp [seconds, fld]
  | n + 1, l, i + 1, h => by
    rw [seconds, List.getElem?_cons_succ, seconds_get n (l.drop 15) i (by omega)]
    unfold fld
    rw [List.drop_drop, Nat.succ_mul, Nat.add_comm (i * 15) 15, Nat.add_assoc]
theorem seconds_len : ∀ (n : Nat) (l : List UInt8), (seconds n l).length = n
  | 0, _ => rfl
  | n + 1, l => by rw [seconds, List.length_cons, seconds_len n]
def hanV (c : Nat) : Bool := (decide (4449 ≤ c) && decide (c ≤ 4469)) || (decide (4520 ≤ c) && decide (c ≤ 4546))
end Go.Proofs.Ythkbjbbffkgpfaa
