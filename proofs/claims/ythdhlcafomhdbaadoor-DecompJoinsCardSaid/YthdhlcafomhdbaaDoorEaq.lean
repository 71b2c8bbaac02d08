/- The program's Full: Collect, AppendSeq over an iterator. -/
import Derived.Test.YthdhlcafomhdbaaDoorEap
namespace Go.Proofs.YthdhlcafomhdbaaDoor
open Go.RowKit Go.Shelf

attribute [local go_sem] Oper.semAt_some

set_option maxRecDepth 100000 in
set_option maxHeartbeats 2000000 in
theorem apseq_in (n n₀ g : Nat) (lb : Array Value) (eg : ∀ args w, (callFunc g args).run Tryd.prog w = .ok (.enter g args) w) (L : List Nat) (Sp : List Nat → Prop) (w : World) (hn₀ : n₀ ≤ w.heap.size) (h1 : 1 ≤ n) (hL : L.length ≤ 1000)
    (hseq : SeqStopsK Fence.wide (n - 1) Tryd.prog g lb encU (Below n₀) (fun ys => ys = L) Sp L.length w) :
    CallsIn Fence.wide n Tryd.prog 22 #[.slice none 0 0, .func (.func g) #[] lb] w fun e w' => ∃ v, e = .returned v ∧ w'.ownsRow w.heap.size 22 1 v L.length (us L) ∧ Up w w' := by
  obtain ⟨i0, hi, hz0, hz1, hz2⟩ := info_parts infoU
  refine callsIn_of_wp_marks Tryd.func22 rfl trivial ?_ rfl
  simp only [Tryd.ntmps22, List.size_toArray, List.length_cons, List.length_nil, Nat.reduceAdd, Nat.reduceSub, Array.replicate_succ, Array.replicate_zero, List.push_toArray, List.append_toArray, List.nil_append, List.cons_append]
  gi_wp2_with fail
  refine wpIn_rangeFunc_ownF rfl h1 (gf := g) (lb := lb) rfl trivial eg hseq (fun h k => h.trans k) (belowK_b (by simp; omega)) ((Below.refl _ w).alloc (Nat.le_refl _) _) (fun _ => rfl)
    (fun pre W => Acc w w.heap.size pre W) (fun _ _ _ => False) (Acc.abides (by simp) id) (fun _ _ _ _ _ hs _ _ => hs)
    ⟨⟨_, World.alloc_heap_new w _, ⟨rfl, .inl ⟨rfl, rfl⟩⟩⟩, (Below.refl _ w).alloc (Nat.le_refl _) _⟩
    (fun x => { tmps := #[.slice none 0 0, .func (.func g) #[] lb, .pointer (some ⟨w.heap.size, 0, none⟩), undef, .slice none 0 0, .int .u32 (x : Int), .func (.func g) #[] lb, .int .u32 (x : Int), undef, undef, undef, undef, undef], defers := [] }) ?assign ?body ?done ?stop
  case assign =>
    intro l x W K hK
    gi_wp2
    exact hK
  case body =>
    rintro l pre x W h hlt
    obtain ⟨v, hv, ho⟩ := h.box
    obtain ⟨hc, hf⟩ := cell_box hv
    have hb := h.below
    gi_wp2_with (gi_at_builtin; refine wpListIn_append_own _ rfl _ _ 23 rfl w.heap.size 22 i0 (.int .u32 0) 1 4 Tryd.underlying23 hi hz0 hz1 hz2 rfl (by decide) _ _ _ rfl (ho.alloc _) ⟨W.heap.size, 0, none⟩ 1 1 [.int .u32 (x : Int)] rfl rfl (cell_one_new _ _ _) (by simp [Value.oneCell']) (by unfold maxLen; omega) (by omega) (by have := hb.size; simp; omega) ?_; intro v' w3 hown' hg3 hnil3; obtain ⟨A', d', rfl, _⟩ := own_rd hown'; have hst := Acc.step (Nat.le_refl _) hb hv ho hown' hg3; have hc3 := (cell_box hst.1).1; have hf3 := (cell_box hst.1).2; clear hnil3)
    obtain ⟨_, hA, hKO, hKB⟩ := hst
    exact ⟨hKO, hKB.mono hn₀, hA⟩
  case done =>
    rintro D ys W hD rfl h hK
    obtain ⟨v, hv, ho⟩ := h.box
    obtain ⟨hc, hf⟩ := cell_box hv
    obtain ⟨A', d', rfl, _⟩ := own_rd ho
    have hD2 : w.heap.size ≤ D := by simp at hD; omega
    have hT := h.turn (D := D) (.deferred none) hD2 hK rfl
    obtain ⟨v2, hv2, ho2⟩ := hT.box
    gi_wp2_with fail
    refine ⟨by simp, .inl ⟨_, _, rfl, run_takeDeferred hK, ?_⟩⟩
    refine ⟨_, results_tmp rfl _ _ _, _, rfl, ?_, hT.below⟩
    exact own_not_other ho (grownBy_putObj' W D _) (fun r e => by cases e; exact ⟨_, hK, rfl⟩)
  case stop =>
    rintro D c pre W _ _ h _
    exact h.elim

end Go.Proofs.YthdhlcafomhdbaaDoor
