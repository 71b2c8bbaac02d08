/- The statements of stage 10: what is told is as the document says. -/
import Derived.Test.YtipemmjbgegmfaaGreatDoorSto
import Derived.Test.YtipemmjbgegmfaaGreatDoorStv
import Derived.Test.YtipemmjbgegmfaaGreatDoorStx
namespace Go.Proofs.YtipemmjbgegmfaaGreatDoor
open Go.RowKit Go.Proofs.YtipemmjbgegmfaaGreatDoor.Ordr Go.Proofs.YtipemmjbgegmfaaGreatDoor.Cmpr

set_option maxRecDepth 100000 in
set_option maxHeartbeats 800000 in
theorem same_walk10 {G : World → Prop} {Rep : (Nat → Prop) → World → Nat → SS → Prop} (H : StreamOk G Rep) (X : Nat → Prop) (g : Nat) (s : SS) (A : Option Addr) (n c : Nat) (w : World) (hR : Rep X w g s) (hn : n = s.held.length) :
    Calls Tryz.prog 8 #[.pointer (some ⟨g, 0, none⟩), aggR s A n c] w fun e w' => e = .returned (.bool true) ∧ Up w w' := by
  have M := Lib.hid (fun w' (u : Up w w') => H.mark X w' g s (H.up hR u))
  have L := fun w' (u : Up w w') => H.held X w' g s (H.up hR u)
  rw [← hn] at L
  have HL := Lib.hid L
  unfold aggM at M
  unfold aggR cellsR
  clear L hn hR H
  generalize s.inn = i at *
  generalize s.out = o at *
  generalize s.sin = si at *
  generalize s.sout = so at *
  generalize s.err = er at *
  have ob := heap_alloc_new w (.cells #[.int .i64 (i : Int), .int .i64 (o : Int), .int .u32 (si : Int), .int .u32 (so : Int), .slice A n c, .int .i64 (er : Int)] 33)
  have u0 : Up w (w.alloc (.cells #[.int .i64 (i : Int), .int .i64 (o : Int), .int .u32 (si : Int), .int .u32 (so : Int), .slice A n c, .int .i64 (er : Int)] 33)) := (Up.refl w).alloc _
  have HX := Lib.hid (fun w' (u : Up (w.alloc (.cells #[.int .i64 (i : Int), .int .i64 (o : Int), .int .u32 (si : Int), .int .u32 (so : Int), .slice A n c, .int .i64 (er : Int)] 33)) w') => six_cells (obj_up ob u))
  have U0 := Lib.hid u0
  clear ob u0
  go_enter Tryz.func8, Tryz.ntmps8
  go_wp2_with fail
  generalize w.alloc (.cells #[.int .i64 (i : Int), .int .i64 (o : Int), .int .u32 (si : Int), .int .u32 (so : Int), .slice A n c, .int .i64 (er : Int)] 33) = w2 at *
  generalize w.heap.size = b at *
  refine wp_region_pi [(0, false), (2, false), (3, false), (1, true), (4, false), (5, false), (6, false), (8, false), (9, false), (10, false), (7, true), (11, false), (12, false), (13, false)] (by kernel_rfl) (by kernel_rfl) (fun _ _ d _ _ h => by cases d <;> exact h) ?_
  ((with_reducible apply pi_take); (focus exact rfl); (focus exact rfl); (focus (intro w' u1; obtain ⟨x0, x1, x2, x3, x4, x5⟩ := HX.out w' (Up.of_drew u1); go_simp; try with_reducible rfl; done)); (try dsimp only [Act.put]); (try simp only [List.setIfInBounds_toArray, List.set_cons_succ, List.set_cons_zero]))
  ((with_reducible apply pi_take); (focus exact rfl); (focus exact rfl); (focus (intro w' u1; obtain ⟨x0, x1, x2, x3, x4, x5⟩ := HX.out w' (Up.of_drew u1); go_simp; try with_reducible rfl; done)); (try dsimp only [Act.put]); (try simp only [List.setIfInBounds_toArray, List.set_cons_succ, List.set_cons_zero]))
  ((with_reducible apply pi_take); (focus exact rfl); (focus exact rfl); (focus (intro w' u1; obtain ⟨x0, x1, x2, x3, x4, x5⟩ := HX.out w' (Up.of_drew u1); go_simp; try with_reducible rfl; done)); (try dsimp only [Act.put]); (try simp only [List.setIfInBounds_toArray, List.set_cons_succ, List.set_cons_zero]))
  refine pi_make rfl rfl (fun K hK => ?_)
  go_simp
  refine (M.out _ (U0.out.trans (Up.of_drew (Up.refl _)))).mono ?_
  rintro e w3 ⟨rfl, hy⟩
  refine hK.out _ _ hy ?_
  have hu3 := Up.of_drew hy
  clear hK K hy
  have HX3 := Lib.hid (fun w' (u : Up w3 w') => HX.out w' (hu3.trans u))
  ((with_reducible apply pi_take); (focus exact rfl); (focus exact rfl); (focus (intro w' u1; have me := mark_eq; obtain ⟨x0, x1, x2, x3, x4, x5⟩ := HX3.out w' u1; go_simp; try with_reducible rfl; done)); (try dsimp only [Act.put]); (try simp only [List.setIfInBounds_toArray, List.set_cons_succ, List.set_cons_zero]))
  ((with_reducible apply pi_take); (focus exact rfl); (focus exact rfl); (focus (intro w' u1; have me := mark_eq; obtain ⟨x0, x1, x2, x3, x4, x5⟩ := HX3.out w' u1; go_simp; try with_reducible rfl; done)); (try dsimp only [Act.put]); (try simp only [List.setIfInBounds_toArray, List.set_cons_succ, List.set_cons_zero]))
  ((with_reducible apply pi_take); (focus exact rfl); (focus exact rfl); (focus (intro w' u1; have me := mark_eq; obtain ⟨x0, x1, x2, x3, x4, x5⟩ := HX3.out w' u1; go_simp; try with_reducible rfl; done)); (try dsimp only [Act.put]); (try simp only [List.setIfInBounds_toArray, List.set_cons_succ, List.set_cons_zero]))
  ((with_reducible apply pi_take); (focus exact rfl); (focus exact rfl); (focus (intro w' u1; have me := mark_eq; obtain ⟨x0, x1, x2, x3, x4, x5⟩ := HX3.out w' u1; go_simp; try with_reducible rfl; done)); (try dsimp only [Act.put]); (try simp only [List.setIfInBounds_toArray, List.set_cons_succ, List.set_cons_zero]))
  ((with_reducible apply pi_take); (focus exact rfl); (focus exact rfl); (focus (intro w' u1; have me := mark_eq; obtain ⟨x0, x1, x2, x3, x4, x5⟩ := HX3.out w' u1; go_simp; try with_reducible rfl; done)); (try dsimp only [Act.put]); (try simp only [List.setIfInBounds_toArray, List.set_cons_succ, List.set_cons_zero]))
  ((with_reducible apply pi_take); (focus exact rfl); (focus exact rfl); (focus (intro w' u1; have me := mark_eq; obtain ⟨x0, x1, x2, x3, x4, x5⟩ := HX3.out w' u1; go_simp; try with_reducible rfl; done)); (try dsimp only [Act.put]); (try simp only [List.setIfInBounds_toArray, List.set_cons_succ, List.set_cons_zero]))
  refine pi_make rfl rfl (fun K hK => ?_)
  go_simp
  refine (HL.out _ (U0.out.trans hu3)).mono ?_
  rintro e w4 ⟨rfl, hy⟩
  refine hK.out _ _ hy ?_
  have hu4 := hu3.trans hy
  clear hK K hy
  ((with_reducible apply pi_take); (focus exact rfl); (focus exact rfl); (focus (intro w' u1;  go_simp; try with_reducible rfl; done)); (try dsimp only [Act.put]); (try simp only [List.setIfInBounds_toArray, List.set_cons_succ, List.set_cons_zero]))
  ((with_reducible apply pi_take); (focus exact rfl); (focus exact rfl); (focus (intro w' u1;  go_simp; try with_reducible rfl; done)); (try dsimp only [Act.put]); (try simp only [List.setIfInBounds_toArray, List.set_cons_succ, List.set_cons_zero]))
  ((with_reducible apply pi_take); (focus exact rfl); (focus exact rfl); (focus (intro w' u1;  go_simp; try with_reducible rfl; done)); (try dsimp only [Act.put]); (try simp only [List.setIfInBounds_toArray, List.set_cons_succ, List.set_cons_zero]))
  refine pi_done ?_
  go_wp2_with fail
  go_ret
  exact ⟨rfl, U0.out.trans hu4⟩

end Go.Proofs.YtipemmjbgegmfaaGreatDoor
