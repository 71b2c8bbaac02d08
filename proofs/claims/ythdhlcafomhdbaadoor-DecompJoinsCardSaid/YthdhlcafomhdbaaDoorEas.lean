/- The program's Whole; all three. -/
import Derived.Test.YthdhlcafomhdbaaDoorEar
import Derived.Test.YthdhlcafomhdbaaDoorDaw
namespace Go.Proofs.YthdhlcafomhdbaaDoor
open Go.RowKit Go.Shelf

attribute [local go_sem] Oper.semAt_some

/-- What Whole's rounds keep. -/
structure WholeAt (w : World) (c : Nat) (u : Bool → Prop) (W : World) : Prop where
  box : W.heap[w.heap.size]? = some (.cells #[.int .u32 (c : Int)] 22 (0, 0))
  res : ∃ b, u b ∧ W.heap[w.heap.size + 1]? = some (.cells #[.bool b] 4 (0, 0))
  below : Below w.heap.size w W
theorem WholeAt.kept {w : World} {c B : Nat} {u : Bool → Prop} (hB : w.heap.size ≤ B) {W W' : World} {row : Option Nat} (h : WholeAt w c u W) (hg : W.grownBy W' row)
    (hr : ∀ r, row = some r → B ≤ r ∧ ∃ o : Obj, W.heap[r]? = some o ∧ o.isCells = false) : WholeAt w c u W' := by
  have hr' : ∀ r, row = some r → ∃ o : Obj, W.heap[r]? = some o ∧ o.isCells = false := fun r e => (hr r e).2
  obtain ⟨b, hb, hv⟩ := h.res
  exact ⟨(grownBy_keeps_cells hg hr' h.box rfl).trans h.box, ⟨b, hb, (grownBy_keeps_cells hg hr' hv rfl).trans hv⟩, h.below.grown hg h.below.size (fun k e => Nat.le_trans hB (hr k e).1)⟩
theorem WholeAt.put {w : World} {c : Nat} {u : Bool → Prop} {W : World} (h : WholeAt w c u W) (b : Bool) : WholeAt w c (fun x => x = b) (W.setCell ⟨w.heap.size + 1, 0, none⟩ (.bool b)) := by
  obtain ⟨x, _, hv⟩ := h.res
  exact ⟨(Below.heap_setCell _ _ _ _ (by simp)).trans h.box, ⟨b, rfl, heap_set_box _ hv⟩, h.below.setCell (p := ⟨w.heap.size + 1, 0, none⟩) (by simp) _⟩

theorem full_all {c : Nat} : (∀ y ∈ full c, y = c) ↔ full c = [c] := by
  constructor
  · intro h
    cases hf : full c with
    | nil => exact absurd hf (full_some c)
    | cons x t =>
      have hx : x = c := h x (by rw [hf]; simp)
      have := full_whole c x (by rw [hf]; simp)
      rw [hx, hf, hx] at this
      rw [hx]; exact this
  · intro h y hy
    rw [h] at hy
    exact List.mem_singleton.1 hy

theorem results_one {fn : Func} {p : Tmp} {tmps : Array Value} {w : World} {g : Nat} {b : Bool} (h : fn.results = #[.cell p 4]) (hp : tmps.getD p undef = .pointer (some ⟨g, 0, none⟩)) (hg : w.heap[g]? = some (.cells #[.bool b] 4 (0, 0))) :
    (results fn tmps).run Tryd.prog w = .ok (.bool b) w := by
  have hc := (cell_box hg).1
  have hp' : tmps[p]?.getD undef = .pointer (some ⟨g, 0, none⟩) := by simpa using hp
  simp only [results, h, asAddr, loadVar]
  simp [go_sem, hc, hp']

set_option maxRecDepth 100000 in
set_option maxHeartbeats 2000000 in
theorem whole_prog (c : Nat) (w : World) (h0 : HRows w) : Calls Tryd.prog 11 #[.int .u32 (c : Int)] w fun e w' => e = .returned (.bool (decide (full c = [c]))) ∧ Up w w' := by
  refine (callsIn_wide (n := 5)).1 ?_
  have hP := fun W => (callsIn_wide (n := 4)).2 (parts_prog c W)
  refine callsIn_of_wp_marks Tryd.func11 rfl trivial ?_ rfl
  simp only [Tryd.ntmps11, List.size_toArray, List.length_cons, List.length_nil, Nat.reduceAdd, Nat.reduceSub, Array.replicate_succ, Array.replicate_zero, List.push_toArray, List.append_toArray, List.nil_append, List.cons_append]
  gi_wp2_with fail
  refine ⟨trivial, (hP _).mono ?_⟩
  clear hP
  rintro e w1 ⟨rfl, rfl⟩
  obtain ⟨w2, hw2⟩ : ∃ w2, (w.alloc (.cells #[.int .u32 (c : Int)] 22)).alloc (.cells #[.bool false] 4) = w2 := ⟨_, rfl⟩
  have hs2 : Hid (w2.heap.size = w.heap.size + 2) := Lib.hid (by rw [← hw2]; simp)
  have hA2 : WholeAt w c (fun x => x = false) w2 := by
    rw [← hw2]
    refine ⟨(Below.heap_alloc _ _ _ (by simp)).trans (World.alloc_heap_new w _), ⟨false, rfl, ?_⟩, ((Below.refl _ w).alloc (Nat.le_refl _) _).alloc (by simp) _⟩
    have := World.alloc_heap_new (w.alloc (.cells #[.int .u32 (c : Int)] 22)) (.cells #[.bool false] 4)
    rwa [World.size_alloc] at this
  rw [hw2]
  clear hw2
  have hlow := hA2.below
  have hS := parts_stops 4 w.heap.size w (w2.alloc (.cells #[.int .u32 (c : Int)] 22)) h0 rfl (hlow.alloc hlow.size _) c w2.heap.size (by simp) (cell_box (World.alloc_heap_new w2 _)).1
  have hAll := full_all (c := c)
  have hA3 : WholeAt w c (fun x => x = false) (w2.alloc (.cells #[.int .u32 (c : Int)] 22)) := hA2.kept (Nat.le_refl _) (World.grownBy_alloc w2 _ none) (fun r e => by cases e)
  generalize hFc : full c = F at *
  have HF := Lib.hid hFc
  clear hFc
  gi_wp2_with fail
  refine wpIn_rangeFunc_ownF rfl (by omega) (gf := 23) (lb := #[.pointer (some ⟨w2.heap.size, 0, none⟩)]) rfl trivial (enters_of Tryd.func23 (by kernel_rfl) rfl) hS (fun h k => h.trans k)
    (belowK_b (by have := hlow.size; simp; omega)) (Below.refl _ _) (fun _ => rfl)
    (fun pre W => WholeAt w c (fun x => x = false) W ∧ ∀ y ∈ pre, y = c) (fun cd pre W => cd = .ret ∧ WholeAt w c (fun x => x = false) W ∧ ∃ y ∈ pre, y ≠ c)
    (fun s A B row hs hg hr => ⟨hs.1.kept (by have := hlow.size; simp; omega) hg hr, hs.2⟩) (fun cd s A B row hs hg hr => ⟨hs.1, hs.2.1.kept (by have := hlow.size; simp; omega) hg hr, hs.2.2⟩)
    ⟨hA3, fun y hy => absurd hy (by simp)⟩
    (fun y => { tmps := #[.int .u32 (c : Int), .pointer (some ⟨w.heap.size, 0, none⟩), .pointer (some ⟨w.heap.size + 1, 0, none⟩), .int .u32 (y : Int), .int .u32 (c : Int), .func (.func 23) #[] #[.pointer (some ⟨w2.heap.size, 0, none⟩)], .int .u32 (y : Int), undef, undef, undef], defers := [] }) ?assign ?body ?done ?stop
  case assign =>
    intro l x W K hK
    gi_wp2
    exact hK
  case body =>
    rintro l2 pre y W ⟨hA, hM⟩ hlt2
    obtain ⟨hc, hf1⟩ := cell_box hA.box
    obtain ⟨b, rfl, hv⟩ := hA.res
    obtain ⟨hc2, hf2⟩ := cell_box hv
    by_cases hy : y = c
    · gi_wp2_with fail
      refine ⟨KeepsOthers.refl _, Below.refl _ _, hA, fun z hz => ?_⟩
      rcases List.mem_append.1 hz with hz | hz
      · exact hM z hz
      · rw [List.mem_singleton.1 hz]; exact hy
    · gi_wp2_with fail
      exact ⟨KeepsOthers.setCell _ _ _, rfl, hA.put false, y, by simp, hy⟩
  case done =>
    rintro D ys W hD rfl ⟨hA, hM⟩ hK
    obtain ⟨b, rfl, hv⟩ := hA.res
    obtain ⟨hc2, hf2⟩ := cell_box hv
    gi_wp2_with fail
    have hDw : w.heap.size + 2 ≤ D := by have := hs2.out; simp at hD; omega
    have hB := hA.put true
    have hK2 : (W.setCell ⟨w.heap.size + 1, 0, none⟩ (.bool true)).heap[D]? = some (.deferred (some [])) := (Below.heap_setCell _ _ _ _ (by simp; omega)).trans hK
    refine ⟨by simp, .inl ⟨_, _, rfl, run_takeDeferred hK2, ?_⟩⟩
    have hB2 := hB.kept (B := w.heap.size) (Nat.le_refl _) (grownBy_putObj' _ D (.deferred none)) (fun r e => by cases e; exact ⟨by omega, _, hK2, rfl⟩)
    obtain ⟨b, rfl, hv2⟩ := hB2.res
    refine ⟨_, results_one rfl rfl hv2, ?_, hB2.below⟩
    rw [HF.out, decide_eq_true (hAll.1 hM)]
  case stop =>
    rintro D cd pre W hD hSp ⟨rfl, hA, hx⟩ hK
    gi_wp2_with fail
    have hDw : w.heap.size + 2 ≤ D := by have := hs2.out; simp at hD; omega
    refine ⟨by simp, .inl ⟨_, _, rfl, run_takeDeferred hK, ?_⟩⟩
    have hB2 := hA.kept (B := w.heap.size) (Nat.le_refl _) (grownBy_putObj' _ D (.deferred none)) (fun r e => by cases e; exact ⟨by omega, _, hK, rfl⟩)
    obtain ⟨b, rfl, hv2⟩ := hB2.res
    refine ⟨_, results_one rfl rfl hv2, ?_, hB2.below⟩
    obtain ⟨y, hy, hne⟩ := hx
    rw [HF.out, decide_eq_false (fun e => hne ((hAll.2 e) y (hSp.2.subset hy)))]

theorem decomp_ok : DecompOk where
  full := fun c w h _ => full_prog c w h
  list := fun A n d l w h0 h hn hmax _ => list_prog A n d l w h0 h hn hmax
  whole := fun c w h _ => whole_prog c w h

end Go.Proofs.YthdhlcafomhdbaaDoor
