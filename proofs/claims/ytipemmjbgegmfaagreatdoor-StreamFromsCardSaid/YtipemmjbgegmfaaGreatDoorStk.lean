/- Stage 10, as the rows want it. -/
import Derived.Test.YtipemmjbgegmfaaGreatDoorSvw
import Derived.Test.YtipemmjbgegmfaaGreatDoorStg
import Derived.Deep.Grids
namespace Go.Proofs.YtipemmjbgegmfaaGreatDoor
open Go.RowKit Go.Deep Go.ChangeShapes Go.WideShapes Go.ChangeAt

theorem wf_i64 {n : Int} (h : (Lit.int .i64 n).wf = true) : -9223372036854775808 ≤ n ∧ n ≤ 9223372036854775807 := by
  simpa [Lit.wf, IntKind.min, IntKind.max, IntKind.signed, IntKind.bits] using h
theorem bools_said {H : Type} {enc : TypeId × Value → H} {W : World} {held : Bool} {fuel : Nat} {cs : List Value} {d : DataW H} {p : List MemPlace} (h : DataW.trod enc Tryz.prog W 0 (fun _ => true) held fuel 23 cs = some (d, p)) {O : Option Addr} {len cap : Nat} (hcs : cs = [.slice O len cap]) :
    len ≤ cap ∧ cap ≤ 9223372036854775807 ∧ BoolsIn W O len := by
  rcases open_bools Tryz.underlying23 Tryz.underlying4 (by kernel_rfl) h with ⟨h1, _⟩ | ⟨a, len', cap', B, h1, _, hl, hm, _, hcell⟩
  · rw [hcs] at h1
    simp at h1
    obtain ⟨rfl, rfl, rfl⟩ := h1
    exact ⟨Nat.le_refl _, by omega, fun i hi => absurd hi (Nat.not_lt_zero _)⟩
  · rw [hcs] at h1
    simp at h1
    obtain ⟨rfl, rfl, rfl⟩ := h1
    refine ⟨hl, by unfold maxLen at hm; omega, fun i hi => ⟨a, B i, rfl, ?_, hcell i (by omega)⟩⟩
    have := World.block_lt_of_cell? W _ (hcell i (by omega))
    rwa [addr_block] at this
theorem froms_walk10 {G : World → Prop} {Rep : (Nat → Prop) → World → Nat → SS → Prop} (hG : Ground G) (H : StreamOk G Rep) (W : World) (hw : G W) (ma : Int) (hma : -9223372036854775808 ≤ ma ∧ ma ≤ 9223372036854775807) (mb : Int) (hmb : -9223372036854775808 ≤ mb ∧ mb ≤ 9223372036854775807) (mc : Int) (hmc : 0 ≤ mc ∧ mc < 4294967296) (md : Int) (hmd : 0 ≤ md ∧ md < 4294967296)
    (O : Option Addr) (len cap : Nat) (LL : List (List UInt8)) (hlen : LL.length = len) (hlc : len ≤ cap) (hcm : cap ≤ 9223372036854775807) (hin : RowsIn W O LL) :
    Calls Tryz.prog 4 #[.agg #[.int .i64 ma, .int .i64 mb, .int .u32 mc, .int .u32 md], .slice O len cap] W fun e w' => e = .returned (.bool true) ∧ Up W w' := by
  obtain ⟨c, rfl⟩ := Int.eq_ofNat_of_zero_le hmc.1
  obtain ⟨d, rfl⟩ := Int.eq_ofNat_of_zero_le hmd.1
  exact froms_of10 hG H W hw ma mb c d hma hmb (by omega) (by omega) O len cap LL hlen hlc hcm hin

end Go.Proofs.YtipemmjbgegmfaaGreatDoor
