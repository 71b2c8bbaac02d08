/- A list of whole numbers (int) that a call made itself. -/
import Derived.Test.YthkbjbbffkgpfaaOwn
namespace Go.Proofs.Ythkbjbbffkgpfaa
open Go.RowKit

/-- A list of classes that a call made in w hands back. -/
def ks (l : List Nat) : List Value := l.map fun (n : Nat) => .int .i64 (n : Int)
theorem ks_len (l : List Nat) : (ks l).length = l.length := by simp [ks]
theorem ks_get (l : List Nat) (k : Nat) (h : k < l.length) : (ks l)[k]? = some (.int .i64 (l[k] : Int)) := by simp [ks, h]
theorem ks_append (a b : List Nat) : ks (a ++ b) = ks a ++ ks b := by simp [ks]
theorem ks_drop (l : List Nat) (n : Nat) : (ks l).drop n = ks (l.drop n) := by simp [ks, List.map_drop]
theorem ks_set (l : List Nat) (j z : Nat) : (ks l).set j (.int .i64 (z : Int)) = ks (l.set j z) := by
  unfold ks
  rw [List.map_set]
theorem ks_mid (P Q : List Nat) (x : Nat) : (ks (P ++ x :: Q))[P.length]? = some (.int .i64 (x : Int)) := by
  unfold ks
  rw [List.map_append, List.getElem?_append_right (by simp), List.length_map, Nat.sub_self]
  rfl
theorem ks_zero (n : Nat) : List.replicate n (Value.int .i64 0) = ks (List.replicate n 0) := by simp [ks]
theorem owk_mid {w : World} {base g n d : Nat} {P Q : List Nat} {x : Nat} (h : w.ownsRow base 3 1 (.slice (some ⟨g, 0, none⟩) n d) n (ks (P ++ x :: Q))) {q : Nat} (hq : P.length = q) : w.cell? ⟨g, q, none⟩ = some (.int .i64 (x : Int)) := by
  subst hq
  have hl := h.1
  rw [ks_len, List.length_append, List.length_cons] at hl
  rw [h.cellAt P.length (by omega), ks_mid]
/-- What turns in memory that a call made: one element. -/
theorem owk_bump {w : World} {base g n d : Nat} {ys : List Nat} (h : w.ownsRow base 3 1 (.slice (some ⟨g, 0, none⟩) n d) n (ks ys)) (k z : Nat) :
    (w.setCell ⟨g, k, none⟩ (.int .i64 (z : Int))).ownsRow base 3 1 (.slice (some ⟨g, 0, none⟩) n d) n (ks (ys.set k z)) := by
  have := (h.stored k (.int .i64 (z : Int))).1
  rwa [ks_set] at this
def GivesK (l : List Nat) (w : World) (e : Ending) (w' : World) : Prop :=
  ∃ A d, e = .returned (.slice A l.length d) ∧ w'.ownsRow w.heap.size 3 1 (.slice A l.length d) l.length (ks l) ∧ Up w w'

end Go.Proofs.Ythkbjbbffkgpfaa
