/- (*Scan).State. Written by program (wip/tools/st.py). -/
import Derived.Test.YtdkegfookbgicaaSc
import Derived.Test.YtdkegfookbgicaaPir
namespace Go.Proofs.Ytdkegfookbgicaa
open Go.RowKit

theorem ret_cell {P : Program} {fn : Func} {p : Tmp} {ty : TypeId} (h : fn.results = #[.cell p ty]) {R : Ending → World → Prop} {a : Act} {w : World} {g : Nat} {t : TypeId} {cs : Array Value} {fr : Nat × Nat} {d : TypeDesc}
    (hp : a.tmps.getD p undef = .pointer (some ⟨g, 0, none⟩)) (hg : w.heap[g]? = some (.cells cs t fr))
    (hu : P.underlying ty = some d) (hd : (match d with | .struct _ | .array _ _ => true | _ => false) = true) (hi : (P.info? ty).map (·.size) = some cs.size)
    (hdf : a.defers = []) (hR : R (.returned (.agg cs)) w) : bodyPost P fn R .ret a w :=
  bodyPost_ret_by (results_cell_row h a.tmps w g t cs fr d hp hg hu hd hi) hdf hR
theorem infoS : (Try.prog.info? 36).map (·.size) = some 3 := by kernel_rfl

theorem sc_nil_state (w : World) : Calls Try.prog 18 #[.pointer none] w fun e w' => e = .returned (.agg #[.int .i64 0, .int .i64 (-1), .slice none 0 0]) ∧ Up w w' := by
  go_enter Try.func18, Try.ntmps18
  go_wp2
  refine ret_cell rfl rfl (heap_alloc_new w _) Try.underlying36 rfl infoS rfl ⟨rfl, (Up.refl w).alloc _⟩

set_option maxRecDepth 100000 in
theorem sc_state {w : World} {g k : Nat} {s : U.St} (h : Sc w g k s) (hp : s.pend.length ≤ 3) : Calls Try.prog 18 #[.pointer (some ⟨g, 0, none⟩)] w fun e w' => ∃ A c, e = .returned (.agg #[.int .i64 s.seen, .int .i64 s.bad, .slice A s.pend.length c]) ∧ Rd w' A c (bs s.pend) ∧ w'.ownsRow w.heap.size 5 1 (.slice A s.pend.length c) s.pend.length (bs s.pend) ∧ Up w w' := by
  obtain ⟨A, c, hr, ho, _, _⟩ := h.pend
  have hg := obj_lt ho
  obtain ⟨n, hn⟩ : ∃ n, s.pend.length = n := ⟨_, rfl⟩
  rw [hn] at ho hp ⊢
  have HO := Lib.hid ho
  have HR := Lib.hid hr
  have HN := Lib.hid hn.symm
  clear hn hr ho h
  go_enter Try.func18, Try.ntmps18
  go_wp2_with fail
  obtain ⟨w0, hw0⟩ : ∃ w0, w.alloc (.cells #[.int .i64 0, .int .i64 0, .slice none 0 0] 36) = w0 := ⟨_, rfl⟩
  have hu0 : Up w w0 := by rw [← hw0]; exact (Up.refl w).alloc _
  have hr0 : w0.heap[w.heap.size]? = some (.cells #[.int .i64 0, .int .i64 0, .slice none 0 0] 36 (0, 0)) := by rw [← hw0]; exact heap_alloc_new w _
  rw [hw0]
  have HC := Lib.hid (fun w' (hu : Fr w.heap.size w.heap.size w0.drew w') => obj_fr (obj_up HO.out (hu0.drew)) hu (by omega) (by omega))
  clear hw0
  refine wp_region_pir (R := Fr w.heap.size w.heap.size) [(0, false), (1, false), (2, false), (3, false), (4, false), (5, false), (6, false), (7, false), (8, false), (9, false), (10, false), (11, false), (12, true), (13, false), (14, true)] (kept_fr _ _) (by kernel_rfl) (by kernel_rfl) (fun _ _ d _ _ h => by cases d <;> exact h) ?_
  iterate 12 (((with_reducible apply pir_take); (focus exact rfl); (focus exact rfl); (focus (intro w' hu; have c0 := obj_cell (HC.out w' hu) 0; have c1 := obj_cell (HC.out w' hu) 1; have c2 := obj_cell (HC.out w' hu) 2; simp only [List.getElem?_toArray, List.getElem?_cons_zero, List.getElem?_cons_succ] at c0 c1 c2; go_simp; try with_reducible rfl; done))); (simp only [Act.put, List.setIfInBounds_toArray, List.set_cons_succ, List.set_cons_zero]))
  refine pir_make rfl rfl (fun K hK => ?_)
  go_simp
  have hr1 : Rd w0.drew A c (bs s.pend) := (HR.out.up hu0).up (Up.refl _).drew
  refine (clone_code A c n s.pend w0.drew hr1 HN.out (by omega)).mono ?_
  rintro e w1 ⟨A1, cA, rfl, hrd1, hu1, hown1⟩
  refine hK.out _ _ (Fr.of_up hu1 _ _) ?_
  clear hK K hr1
  have HLT := Lib.hid (obj_lt hr0)
  have HO1 := Lib.hid (obj_up (w := w0.drew) hr0 hu1)
  clear hr0
  have HRD := Lib.hid hrd1
  have HOW := Lib.hid hown1
  have HU1 := Lib.hid hu1
  clear hrd1 hown1 hu1
  iterate 1 (((with_reducible apply pir_take); (focus exact rfl); (focus exact rfl); (focus (intro w' hu; go_simp; try with_reducible rfl; done))); (simp only [Act.put, List.setIfInBounds_toArray, List.set_cons_succ, List.set_cons_zero]))
  refine pir_make rfl rfl (fun K hK => ?_)
  have c0 := obj_cell HO1.out 0
  have c1 := obj_cell HO1.out 1
  have c2 := obj_cell HO1.out 2
  simp only [List.getElem?_toArray, List.getElem?_cons_zero, List.getElem?_cons_succ] at c0 c1 c2
  have f0 := obj_frozen HO1.out 0
  have f1 := obj_frozen HO1.out 1
  have f2 := obj_frozen HO1.out 2
  go_simp
  refine hK.out _ _ ((((Fr.refl w.heap.size w.heap.size w1).setCell (.inl rfl) _).setCell (.inl rfl) _).setCell (.inl rfl) _) ?_
  clear hK K c0 c1 c2 f0 f1 f2
  have hg4 := obj_set (obj_set (obj_set HO1.out 0 (.int .i64 s.seen)) 1 (.int .i64 s.bad)) 2 (.slice A1 n cA)
  have hf4 := ((((Fr.refl w.heap.size w.heap.size w1).setCell (p := ⟨w.heap.size, 0, none⟩) (.inl rfl) (.int .i64 s.seen)).setCell (p := ⟨w.heap.size, 1, none⟩) (.inl rfl) (.int .i64 s.bad)).setCell (p := ⟨w.heap.size, 2, none⟩) (.inl rfl) (.slice A1 n cA))
  generalize (((w1.setCell ⟨w.heap.size, 0, none⟩ (.int .i64 s.seen)).setCell ⟨w.heap.size, 1, none⟩ (.int .i64 s.bad)).setCell ⟨w.heap.size, 2, none⟩ (.slice A1 n cA)) = w4 at *
  refine pir_done ?_
  go_wp2
  refine ret_cell rfl rfl hg4 Try.underlying36 rfl infoS rfl ⟨A1, cA, rfl, HRD.out.fr hf4 (fun _ a ha => ?_), own_base (own_fr HOW.out hf4 (fun b hb => ?_)) (Nat.le_of_lt HLT.out), ((hu0.trans (Up.of_drew HU1.out)).fr hf4 (Nat.le_refl _) (Nat.le_refl _))⟩
  · subst ha
    have := HOW.out.lt a.block rfl
    have h2 := HLT.out
    have h3 : w0.drew.heap.size = w0.heap.size := rfl
    omega
  · have := HOW.out.lt b hb
    have h2 := HLT.out
    have h3 : w0.drew.heap.size = w0.heap.size := rfl
    omega

end Go.Proofs.Ytdkegfookbgicaa
