/- The statements of stage 7: composed and decomposed again. -/
import Derived.Test.YtdhnjfkpehigiaaDoorCol
import Derived.Test.YtdhnjfkpehigiaaDoorOrv
import Derived.Test.YtdhnjfkpehigiaaDoorDca
import Derived.Test.YtdhnjfkpehigiaaDoorDlw
namespace Go.Proofs.YtdhnjfkpehigiaaDoor
open Go.RowKit Go.Proofs.YtdhnjfkpehigiaaDoor.Ordr Go.Proofs.YtdhnjfkpehigiaaDoor.Cmpr

/-- What the forms of a list are: facts on their lengths and values. -/
structure Forms (l F D C F2 : List Nat) : Prop where
  f : F = l.flatMap full
  d : D = ord clsOf F
  c : C = comp clsOf twoO D
  f2 : F2 = C.flatMap full
  back : ord clsOf F2 = D
  again : comp clsOf twoO C = C
  lF : F.length ≤ 4 * l.length
  lD : D.length = F.length
  lC : C.length ≤ D.length
  lF2 : F2.length ≤ 4 * C.length
  tF : ∀ y ∈ F, y < 4294967296
  tD : ∀ y ∈ D, y < 4294967296
  tC : ∀ y ∈ C, y < 4294967296
  tF2 : ∀ y ∈ F2, y < 4294967296
theorem forms_of (l : List Nat) (hl : ∀ c ∈ l, c < 4294967296) : ∃ F D C F2, Forms l F D C F2 := by
  have hFt := flat_lt l hl
  have hDt : ∀ y ∈ ord clsOf (l.flatMap full), y < 4294967296 := fun y hy => hFt y ((ord_perm clsOf _).mem_iff.1 hy)
  have hCt := comp_lt _ hDt
  have hw : ∀ y ∈ ord clsOf (l.flatMap full), full y = [y] := Nrmr.nfd_whole clsOf twoO good l
  refine ⟨_, _, _, _, rfl, rfl, rfl, rfl, ?_, ?_, flat_full_len l, ord_len clsOf _, comp_len clsOf twoO _, flat_full_len _, hFt, hDt, hCt, flat_lt _ hCt⟩
  · exact Cmpr.comp_back clsOf twoO good hw (ord_is clsOf _)
  · exact Cmpr.comp_again clsOf twoO good hw (ord_is clsOf _)

end Go.Proofs.YtdhnjfkpehigiaaDoor
