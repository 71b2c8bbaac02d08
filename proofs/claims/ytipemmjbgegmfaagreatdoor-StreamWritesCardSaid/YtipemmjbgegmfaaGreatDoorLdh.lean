/- What a row's list of package-level variables gives: the program's rows of letters lie in memory. And an argument that is an array of three numbers, opened. -/
import Derived.Test.YtipemmjbgegmfaaGreatDoorHga
import Derived.Test.YtipemmjbgegmfaaGreatDoorBas
import Derived.LaidSub
import Derived.Lib.LaidTab
import Derived.OpenShut
import Derived.LaidMore
namespace Go.Proofs.YtipemmjbgegmfaaGreatDoor
open Go.RowKit Go.ChangeShapes Go.WideShapes

section
variable {H : Type} {enc : TypeId × Value → H} {P : Program} {w : World} {base : Nat} {sp : Nat → Bool} {held : Bool}
/-- An array of numbers that is a part of cells: its cell at a place. -/
theorem arr_num {fuel n : Nat} {t e : TypeId} {k : IntKind} {cs : List Value} {x : DataW H × List MemPlace} (ht : P.underlying t = some (.array n e)) (he : P.underlying e = some (.int k)) (hce : P.cellsOf e = 1)
    (h : DataW.trod enc P w base sp held fuel t cs = some x) (i : Nat) (hi : i < n) {z : Int} (hz : ∀ l, x.1 = .agg l → l[i]? = some (.lit (.int k z))) : cs[i]? = some (.int k z) := by
  obtain ⟨xs, m, _, hx, _, hl, hg⟩ := DataW.trod_array ht h
  have h1 := hg i hi
  rw [hce, Nat.mul_one, List.getElem?_eq_getElem (by omega)] at h1
  obtain ⟨q, hc, hy, _⟩ := DataW.trod_int he h1
  have h2 := hz (xs.map (·.1)) (by rw [hx])
  rw [List.getElem?_map, List.getElem?_eq_getElem (by omega), Option.map_some, hy] at h2
  have h3 : q = z := by simpa using h2
  subst h3
  have := congrArg (·[0]?) hc
  simpa [List.getElem?_take, List.getElem?_drop] using this
/-- An array of arrays: the part at a place. -/
theorem arr_part {fuel n c : Nat} {t e : TypeId} {cs : List Value} {x : DataW H × List MemPlace} (ht : P.underlying t = some (.array n e)) (hce : P.cellsOf e = c)
    (h : DataW.trod enc P w base sp held fuel t cs = some x) (i : Nat) (hi : i < n) : ∃ m y, DataW.trod enc P w base sp held m e ((cs.drop (i * c)).take c) = some y ∧ ∀ l, x.1 = .agg l → l[i]? = some y.1 := by
  obtain ⟨xs, m, _, hx, _, hl, hg⟩ := DataW.trod_array ht h
  have h1 := hg i hi
  rw [hce, List.getElem?_eq_getElem (by omega)] at h1
  refine ⟨m, _, h1, fun l e => ?_⟩
  rw [hx] at e
  injection e with e
  rw [← e, List.getElem?_map, List.getElem?_eq_getElem (by omega)]
  rfl
end

theorem h_rows0 {W : World} {rest : List (String × DataW Unit)} (h : laidMet Tryz.prog (("gesso/hangul.rows", Rows.laid_gesso_hangul_rows) :: rest) W) : HRows W := by
  obtain ⟨ps, ⟨g', t', cs, fuel, p, q, hg', ht', hvar, hd, _, _⟩, _⟩ := h
  obtain rfl := Option.some.inj ((show Tryz.prog.globalNamed "gesso/hangul.rows" = some 0 by kernel_rfl).symm.trans hg')
  obtain rfl := Option.some.inj ((show (Tryz.prog.globals[0]?).map (·.type) = some 141 by kernel_rfl).symm.trans ht')
  have key : ∀ i j z a b, i < 4 → j < 2 → (∀ l, (Rows.laid_gesso_hangul_rows : DataW Unit) = .agg l → l[i]? = some (.agg [.lit (.int .u32 a), .lit (.int .u32 b)])) → [a, b][j]? = some z →
      W.cell? ⟨0, i * 2 + j, none⟩ = some (.int .u32 z) := by
    intro i j z a b hi hj hl hz
    obtain ⟨m, y, h1, h2⟩ := arr_part Tryz.underlying141 (show Tryz.prog.cellsOf 140 = 2 by kernel_rfl) hd i hi
    obtain ⟨l0, e0⟩ : ∃ l, (Rows.laid_gesso_hangul_rows : DataW Unit) = .agg l := ⟨_, rfl⟩
    have h3 : y.1 = .agg [.lit (.int .u32 a), .lit (.int .u32 b)] := Option.some.inj ((h2 l0 e0).symm.trans (hl l0 e0))
    have h4 := arr_num Tryz.underlying140 Tryz.underlying28 (show Tryz.prog.cellsOf 28 = 1 by kernel_rfl) h1 j hj (z := z) (fun l e => by
      rw [h3] at e
      injection e with e
      rw [← e]
      have : j = 0 ∨ j = 1 := by omega
      rcases this with rfl | rfl
      · have hz0 : a = z := by simpa using hz
        rw [hz0]; rfl
      · have hz0 : b = z := by simpa using hz
        rw [hz0]; rfl)
    rw [List.getElem?_take, if_pos hj, List.getElem?_drop] at h4
    have h5 := World.var?_cell hg' hvar (i * 2 + j)
    rw [h5]
    simpa using h4
  have L0 := key 0
  refine ⟨key 0 0 _ 4352 4370 (by decide) (by decide) ?_ rfl, key 0 1 _ 4352 4370 (by decide) (by decide) ?_ rfl, key 1 0 _ 4449 4469 (by decide) (by decide) ?_ rfl, key 1 1 _ 4449 4469 (by decide) (by decide) ?_ rfl,
    key 2 0 _ 4520 4546 (by decide) (by decide) ?_ rfl, key 2 1 _ 4520 4546 (by decide) (by decide) ?_ rfl, key 3 0 _ 44032 55203 (by decide) (by decide) ?_ rfl, key 3 1 _ 44032 55203 (by decide) (by decide) ?_ rfl⟩ <;>
    (intro l e; unfold Rows.laid_gesso_hangul_rows at e; injection e with e; rw [← e]; rfl)

/-- Out of a row's whole list. -/
theorem h_rows {W : World} {l : List (String × DataW Unit)} (hp : laidMetH Tryz.prog l W = laidMet Tryz.prog l W) (hf : l.filter (fun x => x.1 == "gesso/hangul.rows") = [("gesso/hangul.rows", Rows.laid_gesso_hangul_rows)]) (h : laidMetH Tryz.prog l W) : HRows W := by
  rw [hp] at h
  have h2 := laidMet.filter (fun x => x.1 == "gesso/hangul.rows") h
  rw [hf] at h2
  exact h_rows0 h2


end Go.Proofs.YtipemmjbgegmfaaGreatDoor
