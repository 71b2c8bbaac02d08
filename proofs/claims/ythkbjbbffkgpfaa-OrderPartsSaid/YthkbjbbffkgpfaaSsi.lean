/- slices.SortStableFunc: two runs are merged, however long. -/
import Derived.Test.YthkbjbbffkgpfaaSsh
namespace Go.Proofs.Ythkbjbbffkgpfaa
open Go.RowKit Go.Proofs.Ythkbjbbffkgpfaa.Stb
variable {W : World} {g N D : Nat} {P S : List Nat} {c : FuncId} {cb : Value} {cls : Nat → Nat} {r : Nat → Nat → Int}

theorem sym_all (K : CmpOk c cb W N cls r) (o len cap : Nat) (ho : o = P.length) (hN : N ≤ 4611686018427387904) : ∀ sz, SymOk W g N D P S c cb cls o len cap sz
  | 0 => fun _ _ _ _ _ _ _ _ h => absurd h (Nat.not_lt_zero _)
  | sz + 1 => fun X A B Z a m b w hsz h hlen ha hm hb hA hB sA sB => by
    by_cases h1 : A.length = 1
    · obtain ⟨x, rfl⟩ := List.length_eq_one_iff.1 h1
      have := merge_left K X x B Z o len cap a m b w (by simpa using h) ho (by simpa using hlen) ha (by simpa using hm) (by simp at hm; omega) hN sB
      exact this
    by_cases h2 : B.length = 1
    · obtain ⟨x, rfl⟩ := List.length_eq_one_iff.1 h2
      exact merge_right K X A x Z o len cap a m b w (by simpa using h) ho (by simpa using hlen) ha hm (by simpa using hb) h1 hN sA
    exact merge_gen K o len cap (A.length + B.length) (fun X' A' B' Z' a' m' b' w' hlt => sym_all K o len cap ho hN sz X' A' B' Z' a' m' b' w' (by omega)) ho hN X A B Z a m b w rfl h hlen ha hm hb (by omega) (by omega) sA sB

end Go.Proofs.Ythkbjbbffkgpfaa
