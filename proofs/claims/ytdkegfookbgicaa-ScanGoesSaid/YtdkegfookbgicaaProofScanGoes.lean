/- What is proved: the statement ScanGoes: the function gesso/gessolaw02.ScanGoes answers true for every input, and leaves its arguments as they were. Written by program (wip/tools/mkproof.py) round the walk. -/
import Derived.Test.YtdkegfookbgicaaGos
import Derived.Test.YtdkegfookbgicaaArgs
import Derived.WalkKit
import Derived.ProofKit
import Derived.OpenShut
import Derived.ShutString
import Derived.ChangeOld
import Derived.Below
import Derived.SizedLaws
import Derived.Lib.SmallJoins
namespace Go.Proofs.Ytdkegfookbgicaa.scanGoes
open Go.ChangeShapes Go.WideShapes Go.ChangeAt Go.RowKit
open Go.ChangeMaps (open_string shut_string)
set_option linter.unusedVariables false

theorem own : ownKnob Try.prog.godebug = none := by kernel_rfl
theorem laidOut : laidOutB Try.prog = true := by kernel_rfl

theorem contract (H : Type) (enc : TypeId × Value → H) (W : World) (base : Nat) (args : Array Value) (ds gs : List (DataW H)) (before : List MemPlace)
    (hval : ∀ (j : Nat) t v, Try.f5.params[j]? = some t → args[j]? = some v → Value.okWide Try.prog W .any base t v)
    (hW : DataW.Whole enc Try.prog Try.f5.params.toList Rows.scanGoesSpec.vars false W args.toList ds gs before)
    (hsz : (DataW.weightsEach Try.prog (Try.f5.params.toList ++ Rows.scanGoesSpec.plain.varTypes Try.prog) (ds ++ gs)).all (· ≤ reachBytes) = true)
    : Calls Try.prog 5 args W fun e W' => ∃ v, e = .returned v ∧ Rows.scanGoesSpec.post enc Try.prog Try.f5 false true false false W args v W' := by
  have hW' := hW
  obtain ⟨p, q, hA0, hV, rfl, hfz, hnd⟩ := hW
  have hA : DataW.TrodAll enc Try.prog W 0 (fun _ => true) true Try.f5.params.toList args.toList ds p := hA0
  rw [Try.params5] at hA hval hsz
  obtain ⟨v0, vs0, d0, ds0, p0, q0, hargs, rfl, rfl, h0, r0⟩ := trodAll_cons hA
  obtain ⟨v1, vs1, d1, ds1, p1, q1, rfl, rfl, rfl, h1, r1⟩ := trodAll_cons r0
  obtain ⟨rfl, rfl, rfl⟩ := trodAll_nil r1
  obtain rfl : args = #[v0, v1] := by cases args; simp_all
  obtain ⟨rfl, rfl⟩ := trodVars_none hV
  have k0 := h0
  have lt0 : ∀ x ∈ p0, x.block < W.heap.size := by obtain ⟨m, hm⟩ := k0; exact DataW.trod_lt m _ _ _ hm
  obtain ⟨u0, u1, u2, y0, y1, y2, m0, rfl, rfl, rfl, t0, t1, t2⟩ := Go.Joins.open_agg3 Try.underlying36 (by kernel_rfl) (by kernel_rfl) (hval 0 36 v0 rfl rfl) h0
  obtain ⟨seen, hcs0, _, _⟩ := DataW.trod_int Try.underlying3 t0
  obtain ⟨bad, hcs1, _, _⟩ := DataW.trod_int Try.underlying3 t1
  injection hcs0 with hcs0
  injection hcs1 with hcs1
  subst hcs0 hcs1
  obtain ⟨a0, cap0, pl0, rfl, rd0⟩ : ∃ A c, ∃ l : List UInt8, u2 = .slice A l.length c ∧ Rd W A c (bs l) := by
    rcases open_ints Try.underlying22 Try.underlying5 (by kernel_rfl) t2 with ⟨hcs, _⟩ | ⟨x, l, c, zs, hcs, _, hl, hm, hz, hx, hcell, hwz⟩
    · simp at hcs
      exact ⟨none, 0, [], hcs, Rd.zero W none⟩
    · simp at hcs
      have hz' : zs.length = c := by simpa using hz
      obtain ⟨l', e', rd'⟩ := rd_u8 hl hm hz' hcell hwz
      exact ⟨some x, c, l', by rw [hcs, e'], rd'⟩
  obtain ⟨a1, len1, cap1, rfl⟩ := okWide_slice Try.underlying22 (hval 1 22 v1 rfl rfl)
  have k1 := h1
  have lt1 : ∀ x ∈ p1, x.block < W.heap.size := by obtain ⟨m, hm⟩ := k1; exact DataW.trod_lt m _ _ _ hm
  obtain ⟨l1, e1, rd1, cb1⟩ : ∃ l : List UInt8, l.length = len1 ∧ Rd W a1 cap1 (bs l) ∧ cap1 * 1 ≤ 140737488351232 := by
    obtain ⟨fuel, hf⟩ := h1
    rcases open_ints Try.underlying22 Try.underlying5 (by kernel_rfl) hf with ⟨hcs, _⟩ | ⟨x, l, c, zs, hcs, _, hl, hm, hz, hx, hcell, hwz⟩
    · simp [Value.cells] at hcs
      obtain ⟨rfl, rfl, rfl⟩ := hcs
      exact ⟨[], rfl, Rd.zero W none, by omega⟩
    · simp [Value.cells] at hcs
      obtain ⟨rfl, rfl, rfl⟩ := hcs
      have hz' : zs.length = cap1 := by simpa using hz
      have hd : d1 = _ := (Prod.mk.inj hx).1
      have hs := sized_slice hsz (j := 1) (t := 22) (e := 5) rfl (by rw [hd]; rfl) Try.underlying22
      simp only [lits, List.length_map, List.length_take, List.length_drop, show Try.prog.bytesOf 5 = 1 from by kernel_rfl, reachBytes] at hs
      obtain ⟨l1, e1, rd1⟩ := rd_u8 hl hm hz' hcell hwz
      exact ⟨l1, e1, rd1, by omega⟩
  clear hA0
  refine (goes_walk ⟨seen, bad, pl0⟩ W a0 cap0 rd0 a1 len1 cap1 l1 e1 rd1 cb1).mono fun e W' ⟨he, bel⟩ => ?_
  subst he
  exact ⟨_, rfl, _, _, _, [], _, [], hW', trodAll_mk1 (shut_bool Try.underlying4 _), (trodAll_cons_mk (Below.trod laidOut (by kernel_rfl) (of_decide_eq_true (by kernel_rfl)) k0 bel lt0) (trodAll_cons_mk (Below.trod laidOut (by kernel_rfl) (of_decide_eq_true (by kernel_rfl)) k1 bel lt1) trodAll_mk0)), rfl, Below.frame bel _, fun h => by cases h⟩

set_option maxRecDepth 100000 in
theorem lifted (os : Os) (started : os.Started) (H : Type) (enc : TypeId × Value → H) :
    ReturnsInHanded {} Try.checked os 5 .any (Rows.scanGoesSpec.pre6 enc Try.prog Try.f5 Rows.scanGoesRow.domain false) (Rows.scanGoesSpec.post enc Try.prog Try.f5 false true false false) := by
  refine returnsInHanded_of_change_sized (C := Try.checked) own started (by kernel_rfl) Try.func5
    (ChangeSpec.witness6 (enc := enc) (C := Try.checked) false ⟨#[], #[.agg #[.int .i64 0, .int .i64 0, .slice none 0 0], .slice none 0 0], []⟩ 8 (by kernel_rfl) (by kernel_rfl) (by kernel_rfl) (by kernel_rfl)) ?_
  intro W base args ds gs before hval hW _ hsz _
  exact contract H enc W base args ds gs before hval hW hsz

theorem proved : Rows.ScanGoesSaid :=
  OpenClaim.holds_of_wide 5 Try.f5 rfl rfl rfl rfl rfl rfl rfl ⟨rfl, rfl, rfl, rfl, rfl⟩ rfl rfl rfl rfl rfl (by kernel_rfl) Try.func5 (by kernel_rfl)
    (of_decide_eq_true (by kernel_rfl)) (by unfold Func.isWrapper; first | (rw [if_pos (by decide +kernel)]; kernel_rfl) | (rw [if_neg (by decide +kernel)]; exact ⟨rfl, rfl⟩))
    (fun os started H enc _ => lifted os started H enc)
#print axioms proved
end Go.Proofs.Ytdkegfookbgicaa.scanGoes
