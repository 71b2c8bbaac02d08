/- An argument that is a slice of slices of bytes, opened, however much it holds. -/
import Derived.Test.YtipemmjbgegmfaaGreatDoorSux
import Derived.Test.YtipemmjbgegmfaaGreatDoorBas
import Derived.Deep.Matrix
namespace Go.Proofs.YtipemmjbgegmfaaGreatDoor
open Go.RowKit Go.Deep Go.ChangeShapes Go.WideShapes Go.ChangeAt

theorem rows_said {H : Type} {enc : TypeId × Value → H} {W : World} {held : Bool} {fuel : Nat} {cs : List Value} {d : DataW H} {p : List MemPlace} (h : DataW.trod enc Tryz.prog W 0 (fun _ => true) held fuel 22 cs = some (d, p)) {O : Option Addr} {len cap : Nat} (hcs : cs = [.slice O len cap]) :
    ∃ LL : List (List UInt8), LL.length = len ∧ len ≤ cap ∧ cap ≤ 9223372036854775807 ∧ RowsIn W O LL := by
  rcases open_int_rows Tryz.underlying22 Tryz.underlying31 Tryz.underlying5 (by kernel_rfl) (by kernel_rfl) h with ⟨h1, _⟩ | ⟨a, len', cap', A, L, C, Z, h1, _, hl, hm, hx, hrows⟩
  · rw [hcs] at h1
    simp at h1
    obtain ⟨rfl, rfl, rfl⟩ := h1
    exact ⟨[], rfl, Nat.le_refl _, by omega, fun i hi => absurd hi (Nat.not_lt_zero _)⟩
  · rw [hcs] at h1
    simp at h1
    obtain ⟨rfl, rfl, rfl⟩ := h1
    have each : ∀ r, r < len → ∃ l : List UInt8, l.length = L r ∧ Rd W (A r) (C r) (bs l) := fun r hr => by
      obtain ⟨_, hlc, hcm, hz, hwz, hn, hs⟩ := hrows r (by omega)
      cases hA : A r with
      | none =>
        have hc := hn hA
        refine ⟨[], by show 0 = L r; omega, ?_⟩
        rw [hc]
        exact Rd.zero W none
      | some a' =>
        obtain ⟨_, hcell⟩ := hs a' hA
        exact rd_u8 hlc hcm hz (fun i hi => hcell i (by omega)) hwz
    obtain ⟨y, hy⟩ := choose_lt each
    refine ⟨(List.range len).map y, by rw [List.length_map, List.length_range], hl, by unfold maxLen at hm; omega, fun i hi => ?_⟩
    rw [List.length_map, List.length_range] at hi
    obtain ⟨hcell, _⟩ := hrows i (by omega)
    obtain ⟨hyl, hyr⟩ := hy i hi
    have e : ((List.range len).map y)[i]'(by rw [List.length_map, List.length_range]; exact hi) = y i := by simp
    rw [e, hyl]
    refine ⟨a, A i, C i, rfl, ?_, hcell, hyr⟩
    have := World.block_lt_of_cell? W _ hcell
    rwa [addr_block] at this

end Go.Proofs.YtipemmjbgegmfaaGreatDoor
