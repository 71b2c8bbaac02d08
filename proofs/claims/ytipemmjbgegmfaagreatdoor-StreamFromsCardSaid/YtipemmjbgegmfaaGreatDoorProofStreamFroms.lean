/- What is proved: the statement StreamFroms: the function gesso/gessolaw10.StreamFroms answers true for every input, and leaves its arguments as they were. Written by program (wip/tools/mkproof.py) round the walk. -/
import Derived.Test.YtipemmjbgegmfaaGreatDoorSkv
import Derived.Test.YtipemmjbgegmfaaGreatDoorBas
import Derived.Test.YtipemmjbgegmfaaGreatDoorCards
import Derived.Test.YtipemmjbgegmfaaGreatDoorTie
import Derived.Deep.DeepHandedRow
import Derived.LaidMore
import Derived.LaidSub
import Derived.SevenTiedAt
import Derived.Lib.LaidTab
import Derived.WalkKit
import Derived.ProofKit
import Derived.OpenShut
import Derived.ShutString
import Derived.ChangeOld
import Derived.Below
import Derived.SizedLaws
import Derived.Test.YtipemmjbgegmfaaGreatDoorRwo
import Derived.Test.YtipemmjbgegmfaaGreatDoorStk
import Derived.Lib.SmallJoins
namespace Go.Proofs.YtipemmjbgegmfaaGreatDoor.streamFroms
open Go.ChangeShapes Go.WideShapes Go.ChangeAt Go.RowKit
open Go.ChangeMaps (open_string shut_string)
set_option linter.unusedVariables false

theorem own : ownKnob Tryz.prog.godebug = none := by kernel_rfl
theorem laidOut : laidOutB Tryz.prog = true := by kernel_rfl

set_option maxRecDepth 100000 in
theorem contract (H : Type) (enc : TypeId × Value → H) (W : World) (base : Nat) (args : Array Value) (ds gs : List (DataW H)) (before : List MemPlace)
    (hval : ∀ (j : Nat) t v, Tryz.f4.params[j]? = some t → args[j]? = some v → Value.okWide Tryz.prog W .any base t v)
    (hW : DataW.Whole enc Tryz.prog Tryz.f4.params.toList Rows.streamFromsSpec.vars false W args.toList ds gs before)
    (hsz : (DataW.weightsEach Tryz.prog (Tryz.f4.params.toList ++ Rows.streamFromsSpec.plain.varTypes Tryz.prog) (ds ++ gs)).all (· ≤ reachBytes) = true)
    (hL : laidMetH Tryz.prog Rows.streamFromsRow.laid W)
    : Calls Tryz.prog 4 args W fun e W' => ∃ v, e = .returned v ∧ Rows.streamFromsSpec.post enc Tryz.prog Tryz.f4 false true false false W args v W' := by
  have hW' := hW
  obtain ⟨p, q, hA0, hV, rfl, hfz, hnd⟩ := hW
  have hA : DataW.TrodAll enc Tryz.prog W 0 (fun _ => true) true Tryz.f4.params.toList args.toList ds p := hA0
  rw [Tryz.params4] at hA hval hsz
  obtain ⟨v0, vs0, d0, ds0, p0, q0, hargs, rfl, rfl, h0, r0⟩ := trodAll_cons hA
  obtain ⟨v1, vs1, d1, ds1, p1, q1, rfl, rfl, rfl, h1, r1⟩ := trodAll_cons r0
  obtain ⟨rfl, rfl, rfl⟩ := trodAll_nil r1
  obtain rfl : args = #[v0, v1] := by cases args; simp_all
  obtain ⟨rfl, rfl⟩ := trodVars_none hV
  have k0 := h0
  have lt0 : ∀ x ∈ p0, x.block < W.heap.size := by obtain ⟨m, hm⟩ := k0; exact DataW.trod_lt m _ _ _ hm
  obtain ⟨u0, u1, u2, u3, y0, y1, y2, y3, m0, rfl, rfl, rfl, t0, t1, t2, t3⟩ := Go.Joins.open_agg4 Tryz.underlying30 (by kernel_rfl) (by kernel_rfl) (hval 0 30 v0 rfl rfl) h0
  obtain ⟨n0, hcs0, _, wn0⟩ := DataW.trod_int Tryz.underlying3 t0
  obtain ⟨n1, hcs1, _, wn1⟩ := DataW.trod_int Tryz.underlying3 t1
  obtain ⟨n2, hcs2, _, wn2⟩ := DataW.trod_int Tryz.underlying28 t2
  obtain ⟨n3, hcs3, _, wn3⟩ := DataW.trod_int Tryz.underlying28 t3
  injection hcs0 with hcs0
  injection hcs1 with hcs1
  injection hcs2 with hcs2
  injection hcs3 with hcs3
  subst hcs0 hcs1 hcs2 hcs3
  obtain ⟨a1, len1, cap1, rfl⟩ := okWide_slice Tryz.underlying22 (hval 1 22 v1 rfl rfl)
  have k1 := h1
  have lt1 : ∀ x ∈ p1, x.block < W.heap.size := by obtain ⟨m, hm⟩ := k1; exact DataW.trod_lt m _ _ _ hm
  obtain ⟨l1, e1, lc1, cm1, ri1⟩ : ∃ LL : List (List UInt8), LL.length = len1 ∧ len1 ≤ cap1 ∧ cap1 ≤ 9223372036854775807 ∧ RowsIn W a1 LL := by
    obtain ⟨fuel, hf⟩ := h1
    exact rows_said hf (by simp [Value.cells])
  clear hA0
  refine (froms_walk10 ground_h stream_ok W (h_rows (by kernel_rfl) (by kernel_rfl) hL) n0 (wf_i64 wn0) n1 (wf_i64 wn1) n2 (wf_u32 wn2) n3 (wf_u32 wn3) a1 len1 cap1 l1 e1 lc1 cm1 ri1).mono fun e W' ⟨he, bel⟩ => ?_
  subst he
  exact ⟨_, rfl, _, _, _, [], _, [], hW', trodAll_mk1 (shut_bool Tryz.underlying4 _), (trodAll_cons_mk (Below.trod laidOut (by kernel_rfl) (of_decide_eq_true (by kernel_rfl)) k0 bel lt0) (trodAll_cons_mk (Below.trod laidOut (by kernel_rfl) (of_decide_eq_true (by kernel_rfl)) k1 bel lt1) trodAll_mk0)), rfl, Below.frame bel _, fun h => by cases h⟩

theorem laid_met (os : Os) : laidMet Tryz.prog Rows.streamFromsRow.laid (((World.doorLaid Tryz.prog 4000 os).forCall (fun _ _ => 0) ⟨#[], #[.agg #[.int .i64 0, .int .i64 0, .int .u32 0, .int .u32 0], .slice none 0 0], []⟩).memory) :=
  laidMet_of_run' 10 (by kernel_rfl) (by kernel_rfl)
theorem reads (os : Os) {H : Type} (enc : TypeId × Value → H) : ∃ places, DataW.whole enc Tryz.prog ((World.doorLaid Tryz.prog 4000 os).forCall (fun _ _ => 0) ⟨#[], #[.agg #[.int .i64 0, .int .i64 0, .int .u32 0, .int .u32 0], .slice none 0 0], []⟩).memory Tryz.f4.params.toList Rows.streamFromsSpec.vars false (#[.agg #[.int .i64 0, .int .i64 0, .int .u32 0, .int .u32 0], .slice none 0 0] : Array Value).toList 8 = some ([.agg [.lit (.int .i64 0), .lit (.int .i64 0), .lit (.int .u32 0), .lit (.int .u32 0)], .nil], [], places) :=
  ⟨[], by kernel_rfl⟩

set_option maxRecDepth 100000 in
theorem lifted (os : Os) (started : os.Started) (H : Type) (enc : TypeId × Value → H) (F : Stop.Interp) :
    ReturnsInHanded {} Tryz.checked os 4 .any ((OpenSpec.ofChange Rows.streamFromsSpec).preRow enc Tryz.prog Tryz.f4 Rows.streamFromsRow.domain false Rows.streamFromsRow.laid) (((OpenSpec.ofChange Rows.streamFromsSpec).at F).post enc Tryz.prog Tryz.f4 false true false false) := by
  obtain ⟨places, hx⟩ := reads os enc
  refine returnsInHanded_of_row (C := Tryz.checked) (s := OpenSpec.ofChange Rows.streamFromsSpec) own started (by kernel_rfl) Tryz.func4
    (witness_row_at (enc := enc) (C := Tryz.checked) false (World.doorLaid Tryz.prog 4000 os) #[.agg #[.int .i64 0, .int .i64 0, .int .u32 0, .int .u32 0], .slice none 0 0] rfl (by kernel_rfl) (by kernel_rfl) (by kernel_rfl)
      (OpenSpec.preRow_of_cond 8 hx (by kernel_rfl) (fun k hk => by cases hk) (by kernel_rfl) (laid_met os))) ?_
  intro W base args ds gs before hval hW _ hcond hsz hL _ _
  exact contract H enc W base args ds gs before hval hW hsz hL

theorem said : Rows.StreamFromsSaid :=
  OpenClaim.holds_of_cond 4 Tryz.f4 rfl rfl rfl rfl rfl rfl rfl ⟨rfl, rfl, rfl, rfl, rfl⟩ rfl rfl rfl rfl rfl (by kernel_rfl) Tryz.func4 (by kernel_rfl)
    (of_decide_eq_true (by kernel_rfl)) (by unfold Func.isWrapper; first | (rw [if_pos (by decide +kernel)]; kernel_rfl) | (rw [if_neg (by decide +kernel)]; exact ⟨rfl, rfl⟩))
    (fun os started H enc _ F => by rw [OpenClaim.pre_eq_preRow]; exact lifted os started H enc F)

theorem plain (f : FuncId) (fn : Func) (hf : Tryz.pinned.checked.prog.funcNamed "gesso/gessolaw10.StreamFroms" = some f) (hfn : Tryz.pinned.checked.prog.funcs[f]? = some fn) :
    false = Tryz.pinned.checked.prog.looks [] ∧ ∀ (j : Nat) t, fn.params[j]? = some t → Tryz.pinned.checked.prog.wantsStandIn t = false := by
  obtain rfl : f = 4 := Option.some.inj ((show Tryz.prog.funcNamed "gesso/gessolaw10.StreamFroms" = some 4 by kernel_rfl).symm.trans hf) |>.symm
  obtain rfl : fn = Tryz.f4 := (Option.some.inj (Tryz.func4.symm.trans hfn)).symm
  refine ⟨by kernel_rfl, fun j t ht => ?_⟩
  rw [Tryz.params4] at ht
  have hm : t ∈ [30, 22] := by simpa using Array.mem_of_getElem? ht
  have hall : ([30, 22].all fun u => !Tryz.prog.wantsStandIn u) = true := by kernel_rfl
  exact (show Tryz.prog.wantsStandIn t = false by simpa using List.all_eq_true.1 hall t hm)

theorem proved : Rows.StreamFromsCardSaid :=
  Claim7.holds_tied_plain_at .later [] _ _ _ _ said (fun _ h => by cases h) (by kernel_rfl) (fun _ h => by cases h) streamFroms_row_tie rfl ⟨rfl, rfl⟩ (by kernel_rfl) rfl plain (by kernel_rfl)
#print axioms proved
end Go.Proofs.YtipemmjbgegmfaaGreatDoor.streamFroms
