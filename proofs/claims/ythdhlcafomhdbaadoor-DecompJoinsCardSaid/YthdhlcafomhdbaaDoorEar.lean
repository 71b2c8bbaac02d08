/- The program's Full, List. -/
import Derived.Test.YthdhlcafomhdbaaDoorEaq
import Derived.Test.YthdhlcafomhdbaaDoorDcl
import Derived.LoopIn
namespace Go.Proofs.YthdhlcafomhdbaaDoor
open Go.RowKit Go.Shelf

attribute [local go_sem] Oper.semAt_some

set_option maxRecDepth 100000 in
set_option maxHeartbeats 1000000 in
theorem full_prog (c : Nat) (w : World) (h0 : HRows w) : Calls Tryd.prog 8 #[.int .u32 (c : Int)] w (Gives (full c) w) := by
  have hP := parts_prog c w
  have hb0 : Below w.heap.size w (w.alloc (.cells #[.int .u32 (c : Int)] 22)) := (Below.refl _ w).alloc (Nat.le_refl _) _
  have hS := parts_stops 2 w.heap.size w (w.alloc (.cells #[.int .u32 (c : Int)] 22)) h0 rfl hb0 c w.heap.size (by simp) (cell_box (World.alloc_heap_new w _)).1
  have hA := callsIn_wide.1 (apseq_in 3 w.heap.size 23 #[.pointer (some ⟨w.heap.size, 0, none⟩)] (enters_of Tryd.func23 (by kernel_rfl) rfl) (full c) _ (w.alloc (.cells #[.int .u32 (c : Int)] 22)) (by simp) (by omega) (by have := full_len c; omega) hS)
  clear hS
  generalize full c = L at *
  have hC : Calls Tryd.prog 16 #[.func (.func 23) #[] #[.pointer (some ⟨w.heap.size, 0, none⟩)]] (w.alloc (.cells #[.int .u32 (c : Int)] 22)) fun e w' => ∃ v, e = .returned v ∧ w'.ownsRow (w.alloc (.cells #[.int .u32 (c : Int)] 22)).heap.size 22 1 v L.length (us L) ∧ Up (w.alloc (.cells #[.int .u32 (c : Int)] 22)) w' := by
    generalize w.alloc (.cells #[.int .u32 (c : Int)] 22) = w1 at *
    go_enter Tryd.func16, Tryd.ntmps16
    go_wp2_with fail
    refine hA.mono ?_
    rintro e w2 ⟨v, rfl, ho, hu⟩
    go_wp2_with fail
    go_ret
    exact ⟨_, rfl, ho, hu⟩
  clear hA
  go_enter Tryd.func8, Tryd.ntmps8
  go_wp2_with fail
  refine hP.mono ?_
  rintro e w1 ⟨rfl, rfl⟩
  go_wp2_with fail
  refine hC.mono ?_
  rintro e w2 ⟨v, rfl, ho, hu⟩
  go_wp2_with fail
  go_ret
  exact Gives.of rfl (own_base ho (by simp)) (((Up.refl w).alloc _).trans hu)

/-- The marks that the ranges of a function have left. -/
def marks (Ds : List Nat) : List Deferred := Ds.map fun D => { target := .collected D, args := #[] }
theorem leaves_marks {fn : Func} {tmps : Array Value} {R : Ending → World → Prop} (B : Nat) (T : World → Prop) (hT : ∀ W D, B ≤ D → T W → W.heap[D]? = some (.deferred (some [])) → T (W.putObj D (.deferred none)))
    (hR : ∀ W, T W → LeavesIn Fence.wide 0 Tryd.prog fn tmps R [] .returning W) : ∀ (n : Nat) (Ds : List Nat) (W : World), Ds.Nodup → (∀ D ∈ Ds, B ≤ D ∧ W.heap[D]? = some (.deferred (some []))) → T W →
    LeavesInM Fence.wide n Tryd.prog fn tmps R (marks Ds) .returning W
  | n, [], W, _, _, h => hR W h
  | n, D :: Ds, W, hn, hk, h => by
    have hD := hk D (by simp)
    refine ⟨by simp, .inl ⟨D, _, rfl, run_takeDeferred hD.2, ?_⟩⟩
    have hn2 := List.nodup_cons.1 hn
    refine leaves_marks B T hT hR n Ds _ hn2.2 (fun E hE => ?_) (hT W D hD.1 h hD.2)
    exact ⟨(hk E (by simp [hE])).1, (World.putObj_heap_other (k := E) (r := D) (fun e => hn2.1 (by rw [← e]; exact hE))).trans (hk E (by simp [hE])).2⟩

/-- Between two rounds of List's outer loop. -/
structure ListAt (w : World) (A : Option Addr) (n d : Nat) (l : List Nat) (k : Nat) (Ds : List Nat) (W : World) : Prop where
  le : k ≤ n
  acc : Acc w w.heap.size ((l.take k).flatMap full) W
  nodup : Ds.Nodup
  marks : ∀ D ∈ Ds, w.heap.size ≤ D ∧ W.heap[D]? = some (.deferred (some []))

def slot9 (a : Act) : Nat := match a.tmps.getD 9 undef with
  | .int _ z => z.toNat
  | _ => 0

def ListInv (w : World) (A : Option Addr) (n d : Nat) (l : List Nat) (a : Act) (W : World) : Prop :=
  ∃ (k : Nat) (Ds : List Nat) (u5 u6 u10 u11 u12 u13 u14 u15 u16 u17 u18 u19 u20 : Value), ListAt w A n d l k Ds W ∧
    a = { tmps := #[.slice A n d, undef, .slice none 0 0, .pointer (some ⟨w.heap.size, 0, none⟩), undef, u5, u6, .slice A n d, .int .i64 (n : Int), .int .i64 (k : Int), u10, u11, u12, u13, u14, u15, u16, u17, u18, u19, u20, undef], defers := Go.Proofs.YthdhlcafomhdbaaDoor.marks Ds }

set_option maxRecDepth 100000 in
set_option maxHeartbeats 2000000 in
theorem list_prog (A : Option Addr) (n d : Nat) (l : List Nat) (w : World) (h0 : HRows w) (h : Rd w A d (us l)) (hn : n = l.length) (hmax : n ≤ 100000) : Calls Tryd.prog 13 #[.slice A n d] w (Gives (l.flatMap full) w) := by
  obtain ⟨i0, hi, hz0, hz1, hz2⟩ := info_parts infoU
  refine (callsIn_wide (n := 5)).1 ?_
  refine callsIn_of_wp_marks Tryd.func13 rfl trivial ?_ rfl
  simp only [Tryd.ntmps13, List.size_toArray, List.length_cons, List.length_nil, Nat.reduceAdd, Nat.reduceSub, Array.replicate_succ, Array.replicate_zero, List.push_toArray, List.append_toArray, List.nil_append, List.cons_append]
  have hf := h.fit
  rw [us_len, ← hn] at hf
  have Hn := Lib.hid hn
  have H := Lib.hid h
  clear h hn
  gi_wp2_with (refine wpIn_loop (ListInv w A n d l) (fun a _ => n - slot9 a) ?start ?round)
  case start =>
    exact ⟨0, [], _, _, _, _, _, _, _, _, _, _, _, _, _, ⟨by omega, ⟨⟨_, World.alloc_heap_new w _, ⟨rfl, .inl ⟨rfl, rfl⟩⟩⟩, (Below.refl _ w).alloc (Nat.le_refl _) _⟩, List.nodup_nil, fun D hD => absurd hD (by simp)⟩, rfl⟩
  case round =>
    rintro a wr ⟨k, Ds, u5, u6, u10, u11, u12, u13, u14, u15, u16, u17, u18, u19, u20, hAt, rfl⟩
    have hk := hAt.le
    by_cases hlt : k < n
    · have hkl : k < l.length := by rw [← Hn.out]; exact hlt
      obtain ⟨a, rfl, _⟩ := H.out.ad (by omega)
      have hcell : wr.cell? (a.add k) = some (.int .u32 (l[k] : Int)) := (H.out.up hAt.acc.below).cell a rfl k _ (us_get l k hkl)
      have HS := Lib.hid (flat_take full hkl)
      have hP := (callsIn_wide (n := 4)).2 (parts_prog l[k] wr)
      generalize l[k] = x at *
      have hgs : 4 * k + 4 ≤ 500000 := by omega
      have hgl : ((l.take k).flatMap full).length ≤ 4 * k := by
        have := flat_full_len (l.take k)
        rw [List.length_take] at this
        omega
      have hlow := hAt.acc.below
      have hdef := hAt.marks
      have hnd := hAt.nodup
      have hS := parts_stops 4 w.heap.size w (wr.alloc (.cells #[.int .u32 (x : Int)] 22)) h0 rfl (hlow.alloc hlow.size _) x wr.heap.size (by simp) (cell_box (World.alloc_heap_new wr _)).1
      have hfx := full_len x
      have hacc := hAt.acc
      generalize (l.take k).flatMap full = G at *
      generalize full x = F at *
      clear hAt
      gi_wp2_with fail
      refine ⟨trivial, hP.mono ?_⟩
      clear hP
      rintro e w1 ⟨rfl, rfl⟩
      gi_wp2_with fail
      have hK1 : ∀ D ∈ Ds, w.heap.size ≤ D ∧ D < wr.heap.size := fun D hD => ⟨(hdef D hD).1, (Array.getElem?_eq_some_iff.1 (hdef D hD).2).1⟩
      have hbox : ∃ v, (wr.alloc (.cells #[.int .u32 (x : Int)] 22)).heap[w.heap.size]? = some (.cells #[v] 23 (0, 0)) ∧ (wr.alloc (.cells #[.int .u32 (x : Int)] 22)).ownsRow w.heap.size 22 1 v G.length (us G) := by
        obtain ⟨v, hv, ho⟩ := hacc.box
        exact ⟨v, (Below.heap_alloc _ _ _ (Array.getElem?_eq_some_iff.1 hv).1).trans hv, ho.alloc _⟩
      refine wpIn_rangeFunc_ownF rfl (by omega) (gf := 23) (lb := #[.pointer (some ⟨wr.heap.size, 0, none⟩)]) rfl trivial (enters_of Tryd.func23 (by kernel_rfl) rfl) hS (fun h k => h.trans k)
        (belowK_b (by have := hlow.size; simp; omega)) (Below.refl _ _) (fun _ => rfl)
        (fun pre W => Acc w w.heap.size (G ++ pre) W ∧ ∀ D ∈ Ds, W.heap[D]? = some (.deferred (some []))) (fun _ _ _ => False)
        ?own (fun _ _ _ _ _ hs _ _ => hs) ⟨⟨by simpa using hbox, hlow.alloc hlow.size _⟩, fun D hD => (Below.heap_alloc _ _ D (hK1 D hD).2).trans (hdef D hD).2⟩
        (fun y => { tmps := #[.slice (some a) n d, undef, .slice none 0 0, .pointer (some ⟨w.heap.size, 0, none⟩), undef, .int .u32 (x : Int), .int .u32 (y : Int), .slice (some a) n d, .int .i64 (n : Int), .int .i64 (k : Int), .bool true, .pointer (some (a.add k)), .int .u32 (x : Int), .int .u32 (x : Int), .func (.func 23) #[] #[.pointer (some ⟨wr.heap.size, 0, none⟩)], .int .u32 (y : Int), u16, u17, u18, u19, u20, undef], defers := [] }) ?assign ?body ?done ?stop
      case own =>
        intro s A B row hs hg hr
        refine ⟨Acc.abides (w := w) (Bs := w.heap.size) (B := (wr.alloc (.cells #[.int .u32 (x : Int)] 22)).heap.size) (by have := hlow.size; simp; omega) (fun pre => G ++ pre) s A B row hs.1 hg hr, fun D hD => ?_⟩
        have hDA := hs.2 D hD
        refine (hg.block D (Array.getElem?_eq_some_iff.1 hDA).1 fun e => ?_).trans hDA
        have := (hr D e.symm).1
        have := (hK1 D hD).2
        simp at *; omega
      case assign =>
        intro l x W K hK
        gi_wp2
        exact hK
      case body =>
        rintro l2 pre y W ⟨hA, hM⟩ hlt2
        obtain ⟨v, hv, ho⟩ := hA.box
        obtain ⟨hc, hf1⟩ := cell_box hv
        have hb := hA.below
        have hlen : (G ++ pre).length ≤ 500000 := by rw [List.length_append]; omega
        have hap : G ++ (pre ++ [y]) = G ++ pre ++ [y] := (List.append_assoc _ _ _).symm
        generalize G ++ pre = Z at *
        gi_wp2_with (gi_at_builtin; refine wpListIn_append_own _ rfl _ _ 23 rfl w.heap.size 22 i0 (.int .u32 0) 1 4 Tryd.underlying23 hi hz0 hz1 hz2 rfl (by decide) _ _ _ rfl (ho.alloc _) ⟨W.heap.size, 0, none⟩ 1 1 [.int .u32 (y : Int)] rfl rfl (cell_one_new _ _ _) (by simp [Value.oneCell']) (by unfold maxLen; omega) (by omega) (by have := hb.size; simp; omega) ?_; intro v' w3 hown' hg3 hnil3; obtain ⟨A', d', rfl, _⟩ := own_rd hown'; have hst := Acc.step (Nat.le_refl _) hb hv ho hown' hg3; have hc3 := (cell_box hst.1).1; have hf3 := (cell_box hst.1).2; clear hnil3)
        obtain ⟨_, hA, hKO, hKB⟩ := hst
        exact ⟨hKO, hKB, by rw [hap]; exact hA, fun D hD => hKO.same D _ (hM D hD) rfl⟩
      case done =>
        rintro D ys W hD rfl ⟨hA, hM⟩ hK
        gi_wp2_with fail
        have hDw : wr.heap.size < D := by simp at hD; omega
        refine ⟨⟨k + 1, D :: Ds, .int .u32 (x : Int), u6, .bool true, .pointer (some (a.add k)), .int .u32 (x : Int), .int .u32 (x : Int), .func (.func 23) #[] #[.pointer (some ⟨wr.heap.size, 0, none⟩)], u15, u16, u17, u18, u19, .int .i64 ((k : Int) + 1), ⟨by omega, by rw [HS.out]; exact hA, ?_, ?_⟩, ?_⟩, ?_⟩
        · exact List.nodup_cons.2 ⟨fun hm => by have := (hK1 D hm).2; omega, hnd⟩
        · intro E hE
          rcases List.mem_cons.1 hE with rfl | hE
          · exact ⟨by have := hlow.size; omega, hK⟩
          · exact ⟨(hK1 E hE).1, hM E hE⟩
        · rw [show ((k : Int) + 1) = ((k + 1 : Nat) : Int) from by omega]
          rfl
        · show n - ((k : Int) + 1).toNat < n - ((k : Int)).toNat
          omega
      case stop =>
        rintro D c pre W _ _ h _
        exact h.elim
    · have e : l.take k = l := List.take_of_length_le (by rw [← Hn.out]; omega)
      have hacc := hAt.acc
      have hmk := hAt.marks
      have hnd := hAt.nodup
      clear hAt
      rw [e] at hacc
      clear e
      generalize l.flatMap full = G at *
      obtain ⟨v, hv, ho⟩ := hacc.box
      obtain ⟨hc, hf1⟩ := cell_box hv
      obtain ⟨A', d', rfl, _⟩ := own_rd ho
      gi_wp2_with fail
      refine leaves_marks w.heap.size (fun W => Acc w w.heap.size G W ∧ W.ownsRow w.heap.size 22 1 (.slice A' G.length d') G.length (us G)) ?_ ?_ _ _ _ hnd hmk ⟨hacc, ho⟩
      · rintro W D hD ⟨hA, hO⟩ hK
        exact ⟨hA.turn _ hD hK rfl, own_not_other hO (grownBy_putObj' W D _) (fun r e => by cases e; exact ⟨_, hK, rfl⟩)⟩
      · rintro W ⟨hA, hO⟩
        have hG : Gives G w (.returned (.slice A' G.length d')) W := Gives.of rfl hO hA.below
        exact ⟨_, results_tmp (t := 2) rfl _ _ _, hG⟩
end Go.Proofs.YthdhlcafomhdbaaDoor
