/- The normal forms, plain. -/
import Derived.Test.YthdhlcafomhdbaaDoorCmpr
namespace Go.Proofs.YthdhlcafomhdbaaDoor.Nrmr
open Go.Proofs.YthdhlcafomhdbaaDoor.Ordr Go.Proofs.YthdhlcafomhdbaaDoor.Cmpr
variable (cls : Nat → Nat) (two : Nat → Nat → Option Nat) (full : Nat → List Nat)

def nfd (l : List Nat) : List Nat := ord cls (l.flatMap full)
def nfc (l : List Nat) : List Nat := comp cls two (nfd cls full l)
variable {full} (G : Good cls two full)
include G

theorem nfd_whole (l : List Nat) : ∀ y ∈ nfd cls full l, full y = [y] := by
  intro y hy
  have h := (ord_perm cls (l.flatMap full)).mem_iff.1 hy
  obtain ⟨x, _, hx⟩ := List.mem_flatMap.1 h
  exact G.whole x y hx
omit G in
theorem nfd_of_whole {l : List Nat} (hw : ∀ y ∈ l, full y = [y]) : nfd cls full l = ord cls l := by
  unfold nfd; rw [full_id l hw]
theorem nfd_nfd (l : List Nat) : nfd cls full (nfd cls full l) = nfd cls full l := by
  rw [nfd_of_whole cls (nfd_whole cls two G l)]
  exact ord_ord cls _
theorem nfc_nfd (l : List Nat) : nfc cls two full (nfd cls full l) = nfc cls two full l := by
  unfold nfc; rw [nfd_nfd cls two G]
theorem comp_nfc (l : List Nat) : comp cls two (nfc cls two full l) = nfc cls two full l :=
  comp_again cls two G (nfd_whole cls two G l) (ord_is cls _)
omit G in
/-- Two marks of unlike classes, each whole, may change places. -/
theorem nfd_swap (a b : List Nat) {x y : Nat} (hx : full x = [x]) (hy : full y = [y]) (h1 : cls x ≠ 0) (h2 : cls y ≠ 0) (h : cls x ≠ cls y) : nfd cls full (a ++ x :: y :: b) = nfd cls full (a ++ y :: x :: b) := by
  unfold nfd
  simp only [List.flatMap_append, List.flatMap_cons, hx, hy]
  exact ord_swap cls (a.flatMap full) (b.flatMap full) h1 h2 h

omit G in
/-- What is cut where a number starts has the forms of both parts. -/
theorem nfd_parts (a : List Nat) (z : Nat) (b : List Nat) (h : ∀ f t, full z = f :: t → cls f = 0) (hne : full z ≠ []) : nfd cls full (a ++ z :: b) = nfd cls full a ++ nfd cls full (z :: b) := by
  unfold nfd
  rw [List.flatMap_append]
  refine ord_parts cls _ fun f t he => ?_
  rw [List.flatMap_cons] at he
  cases hz : full z with
  | nil => exact absurd hz hne
  | cons g u =>
    rw [hz] at he
    injection he with e1 _
    subst e1
    exact h g u hz
omit G in
theorem ord_head {f : Nat} (t : List Nat) (h : cls f = 0) : ∃ u, ord cls (f :: t) = f :: u := by
  unfold ord
  show ∃ u, (kept cls t [f]).reverse = _
  have key : ∀ (t r : List Nat), ∃ v, kept cls t (r ++ [f]) = v ++ [f] := by
    intro t
    induction t with
    | nil => exact fun r => ⟨r, rfl⟩
    | cons c t ih =>
      intro r
      obtain ⟨v, hv⟩ := ins_last cls h c r
      show ∃ v, kept cls t (ins cls c (r ++ [f])) = _
      rw [hv]
      exact ih v
  obtain ⟨v, hv⟩ := key t []
  rw [List.nil_append] at hv
  exact ⟨v.reverse, by rw [hv, List.reverse_append]; rfl⟩
theorem nfc_parts (a : List Nat) (z : Nat) (b : List Nat) (h : ∀ f t, full z = f :: t → cls f = 0 ∧ ∀ s, two s f = none) : nfc cls two full (a ++ z :: b) = nfc cls two full a ++ nfc cls two full (z :: b) := by
  unfold nfc
  rw [nfd_parts cls a z b (fun f t e => (h f t e).1) (G.some_ z)]
  cases hz : full z with
  | nil => exact absurd hz (G.some_ z)
  | cons f t =>
    obtain ⟨h1, h2⟩ := h f t hz
    have e : ∃ u, nfd cls full (z :: b) = f :: u := by
      unfold nfd
      rw [List.flatMap_cons, hz]
      exact ord_head cls _ h1
    obtain ⟨u, hu⟩ := e
    rw [hu]
    exact comp_parts cls two _ f u h1 h2

end Go.Proofs.YthdhlcafomhdbaaDoor.Nrmr
