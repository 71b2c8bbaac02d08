/- The law's same: a scan has a state, and its state is its own. Written by program (wip/tools/sm.py). -/
import Derived.Test.YtdkegfookbgicaaMay
import Derived.Test.YtdkegfookbgicaaFeed
namespace Go.Proofs.Ytdkegfookbgicaa
open Go.RowKit

theorem own_up {w w' : World} {base : Nat} {e : TypeId} {size : Nat} {v : Value} {n : Nat} {xs : List Value} (h : w.ownsRow base e size v n xs) (hu : Up w w') : w'.ownsRow base e size v n xs :=
  h.kept (row := none) ⟨hu.os, hu.tape, hu.output, hu.size, fun i hi _ => hu.block i hi⟩ (by cases hv : v.ownBlock <;> simp)
theorem mem_bs {l : List UInt8} {u : Value} (h : u ∈ bs l) : ∃ z, u = .int .u8 z := by
  obtain ⟨b, _, rfl⟩ := List.mem_map.1 h
  exact ⟨_, rfl⟩
theorem owns_set {w : World} {base b n c : Nat} {e : TypeId} {xs : List Value} (h : w.ownsRow base e 1 (.slice (some ⟨b, 0, none⟩) n c) n xs) (i : Nat) (hi : i < n) (u : Value) : (w.setCell ⟨b, i, none⟩ u).ownsRow base e 1 (.slice (some ⟨b, 0, none⟩) n c) n (xs.set i u) := by
  rcases h.2 with ⟨h0, _⟩ | ⟨g, cap, cur, h1, h2, h3, h4, h5, h6, h7⟩
  · cases h0
  · injection h1 with e1 e2 e3
    injection e1 with e1
    injection e1 with e1
    subst e1 e3
    refine ⟨by rw [List.length_set]; exact h.1, .inr ⟨_, _, _, rfl, h2, obj_set h3 i u, h4, h5, by rw [Array.size_setIfInBounds]; exact h6, ?_⟩⟩
    rw [Array.toList_setIfInBounds, ← h7, List.take_set]

set_option maxRecDepth 100000 in
set_option maxHeartbeats 1600000 in
theorem same_law {w : World} {g k : Nat} {s : U.St} (hsc : Sc w g k s) (hok : s.ok) (A : Option Addr) (c : Nat) (hr : Rd w A c (bs s.pend)) :
    Calls Try.prog 13 #[.pointer (some ⟨g, 0, none⟩), agg s A c] w fun e w' => e = .returned (.bool true) ∧ Up w w' := by
  have h3 := U.St.ok_pend hok
  obtain ⟨seen, hseen⟩ : ∃ x, s.seen = x := ⟨_, rfl⟩
  obtain ⟨bad, hbad⟩ : ∃ x, s.bad = x := ⟨_, rfl⟩
  obtain ⟨n, hn⟩ : ∃ x, s.pend.length = x := ⟨_, rfl⟩
  obtain ⟨en, hen⟩ : ∃ x, s.end = x := ⟨_, rfl⟩
  have hagg : ∀ A c, agg s A c = .agg #[.int .i64 seen, .int .i64 bad, .slice A n c] := fun A c => by unfold agg; rw [hseen, hbad, hn]
  rw [hagg]
  have h0 : 0 ≤ seen := by rw [← hseen]; exact hok.seen0
  have h1 : seen ≤ 1099511627776 := by rw [← hseen]; exact hok.seen1
  rw [hn] at h3
  have hst := fun (w' : World) (hu : Up w w') => sc_state (hsc.up hu) (by rw [hn]; exact h3)
  have hfa := fun (w' : World) (hu : Up w w') => sc_fault (hsc.up hu)
  have hee := fun (w' : World) (hu : Up w w') => sc_end (hsc.up hu) (by rw [hn]; exact h3) (by rw [hseen]; exact h0) (by rw [hseen]; exact h1)
  have hre := fun (w' : World) => rend_ref s A c w' hok
  have hsm := fun (w' : World) (B : Option Addr) (d : Nat) (hu : Up w w') (hB : Rd w' B d (bs s.pend)) => rsame_ref s B d A c w' hB (hr.up hu)
  simp only [hagg, hseen, hbad, hn, hen] at hst hfa hee hre hsm
  have HST := Lib.hid hst
  have HFA := Lib.hid hfa
  have HEE := Lib.hid hee
  have HRE := Lib.hid hre
  have HSM := Lib.hid hsm
  have HN := Lib.hid hn
  clear hst hfa hee hre hsm hseen hbad hn hen hagg hok
  have hox0 := heap_alloc_new w (.cells #[.int .i64 seen, .int .i64 bad, .slice A n c] 29)
  have hu0 := (Up.refl w).alloc (.cells #[.int .i64 seen, .int .i64 bad, .slice A n c] 29)
  go_enter Try.func13, Try.ntmps13
  go_wp2_with fail
  refine (HST.out _ hu0).mono ?_
  rintro e w1 ⟨A1, c1, rfl, hr1, hown1, hu1⟩
  have hox1 := obj_up hox0 hu1
  have hu1w := hu0.trans hu1
  have hoy := heap_alloc_new w1 (.cells #[.int .i64 seen, .int .i64 bad, .slice A1 n c1] 36)
  have huy := (Up.refl w1).alloc (.cells #[.int .i64 seen, .int .i64 bad, .slice A1 n c1] 36)
  obtain ⟨w2, hw2⟩ : ∃ w2, w1.alloc (.cells #[.int .i64 seen, .int .i64 bad, .slice A1 n c1] 36) = w2 := ⟨_, rfl⟩
  rw [hw2] at hoy huy
  have hox := obj_up hox1 huy
  have hu2 := hu1w.trans huy
  have hr2 := hr1.up huy
  have hown2 : w2.ownsRow (w.heap.size + 1) 5 1 (.slice A1 n c1) n (bs s.pend) := by
    have h := hown1.alloc (.cells #[.int .i64 seen, .int .i64 bad, .slice A1 n c1] 36)
    rw [hw2] at h
    have hz : (w.alloc (.cells #[.int .i64 seen, .int .i64 bad, .slice A n c] 29)).heap.size = w.heap.size + 1 := by simp
    rw [hz] at h
    exact h
  have hyz : w.heap.size < w1.heap.size := obj_lt hox1
  have hA1 : ∀ b, (Value.slice A1 n c1).ownBlock = some b → b < w1.heap.size := fun b hb => (World.ownsRow.lt hown1 b hb).2
  have HX := Lib.hid (fun w' (hu : Up w2.drew w') => obj_up (w := w2.drew) hox hu)
  have HY := Lib.hid (fun w' (hu : Up w2.drew w') => obj_up (w := w2.drew) hoy hu)
  clear hox0 hox1 hu0 hu1 hu1w huy hr1 hown1
  have hu2d := hu2.trans (Up.refl w2).drew
  have hc2 := Up.refl w2.drew
  go_wp2_with fail
  try rw [hw2]
  refine wp_region_pi [(0, false), (1, false), (2, true), (3, false), (4, false), (6, false), (7, false), (5, true), (8, false), (9, false), (10, false), (11, false), (13, false), (12, true), (14, true), (15, false), (16, false), (17, false)] (by kernel_rfl) (by kernel_rfl) (fun _ _ d _ _ h => by cases d <;> exact h) ?_
  iterate 2 (((with_reducible apply pi_take); (focus exact rfl); (focus exact rfl); (focus (intro w' hu; have cx0 := obj_cell (HX.out w' hu) 0; have cx1 := obj_cell (HX.out w' hu) 1; have cx2 := obj_cell (HX.out w' hu) 2; have cy0 := obj_cell (HY.out w' hu) 0; have cy1 := obj_cell (HY.out w' hu) 1; have cy2 := obj_cell (HY.out w' hu) 2; simp only [List.getElem?_toArray, List.getElem?_cons_zero, List.getElem?_cons_succ] at cx0 cx1 cx2 cy0 cy1 cy2; go_simp; try with_reducible rfl; done))); (simp only [Act.put, List.setIfInBounds_toArray, List.set_cons_succ, List.set_cons_zero]))
  refine pi_make rfl rfl (fun K hK => ?_)
  go_simp
  refine (HSM.out _ A1 c1 hu2d (hr2.up (Up.refl w2).drew)).mono ?_
  rintro e w3 ⟨rfl, hu3⟩
  refine hK.out _ _ hu3 ?_
  clear hK K
  have hc3 := hc2.trans hu3
  iterate 4 (((with_reducible apply pi_take); (focus exact rfl); (focus exact rfl); (focus (intro w' hu; have cx0 := obj_cell (HX.out w' (hc3.trans hu)) 0; have cx1 := obj_cell (HX.out w' (hc3.trans hu)) 1; have cx2 := obj_cell (HX.out w' (hc3.trans hu)) 2; have cy0 := obj_cell (HY.out w' (hc3.trans hu)) 0; have cy1 := obj_cell (HY.out w' (hc3.trans hu)) 1; have cy2 := obj_cell (HY.out w' (hc3.trans hu)) 2; simp only [List.getElem?_toArray, List.getElem?_cons_zero, List.getElem?_cons_succ] at cx0 cx1 cx2 cy0 cy1 cy2; go_simp; try with_reducible rfl; done))); (simp only [Act.put, List.setIfInBounds_toArray, List.set_cons_succ, List.set_cons_zero]))
  refine pi_make rfl rfl (fun K hK => ?_)
  go_simp
  refine (HFA.out _ (hu2d.trans hc3)).mono ?_
  rintro e w4 ⟨rfl, hu4⟩
  refine hK.out _ _ hu4 ?_
  clear hK K
  have hc4 := hc3.trans hu4
  iterate 5 (((with_reducible apply pi_take); (focus exact rfl); (focus exact rfl); (focus (intro w' hu; have cx0 := obj_cell (HX.out w' (hc4.trans hu)) 0; have cx1 := obj_cell (HX.out w' (hc4.trans hu)) 1; have cx2 := obj_cell (HX.out w' (hc4.trans hu)) 2; have cy0 := obj_cell (HY.out w' (hc4.trans hu)) 0; have cy1 := obj_cell (HY.out w' (hc4.trans hu)) 1; have cy2 := obj_cell (HY.out w' (hc4.trans hu)) 2; simp only [List.getElem?_toArray, List.getElem?_cons_zero, List.getElem?_cons_succ] at cx0 cx1 cx2 cy0 cy1 cy2; go_simp; try with_reducible rfl; done))); (simp only [Act.put, List.setIfInBounds_toArray, List.set_cons_succ, List.set_cons_zero]))
  refine pi_make rfl rfl (fun K hK => ?_)
  go_simp
  refine (HEE.out _ (hu2d.trans hc4)).mono ?_
  rintro e w5 ⟨rfl, hu5⟩
  refine hK.out _ _ hu5 ?_
  clear hK K
  have hc5 := hc4.trans hu5
  refine pi_make rfl rfl (fun K hK => ?_)
  go_simp
  refine (HRE.out _).mono ?_
  rintro e w6 ⟨rfl, hu6⟩
  refine hK.out _ _ hu6 ?_
  clear hK K
  have hc6 := hc5.trans hu6
  iterate 3 (((with_reducible apply pi_take); (focus exact rfl); (focus exact rfl); (focus (intro w' hu; go_simp; try with_reducible rfl; done))); (simp only [Act.put, List.setIfInBounds_toArray, List.set_cons_succ, List.set_cons_zero]))
  refine pi_done ?_
  have hox6 := HX.out w6 hc6
  have hoy6 := HY.out w6 hc6
  have hu6w := hu2d.trans hc6
  have hown6 : w6.ownsRow (w.heap.size + 1) 5 1 (.slice A1 n c1) n (bs s.pend) := own_up hown2 ((Up.refl w2).drew.trans hc6)
  clear HX HY hc3 hc4 hc5 hc6 hu2 hu2d hu3 hu4 hu5 hu6 hown2 hr2 hox hoy
  go_wp2_with fail
  go_loopw [7] (fun i wr => ∃ p : Nat, p ≤ n ∧ i = .int .i64 p ∧ ∃ xs : List Value, (∀ u ∈ xs, ∃ z, u = .int .u8 z) ∧ wr.ownsRow (w.heap.size + 1) 5 1 (.slice A1 n c1) n xs ∧ wr.heap[w1.heap.size]? = some (.cells #[.int .i64 seen, .int .i64 bad, .slice A1 n c1] 36 (0, 0)) ∧ wr.heap[w.heap.size]? = some (.cells #[.int .i64 seen, .int .i64 bad, .slice A n c] 29 (0, 0)) ∧ Up w wr) (fun i _ => n - (intOf i).toNat)
  case atStart => exact ⟨0, by omega, rfl, _, fun u hu => mem_bs hu, hown6, hoy6, hox6, hu6w⟩
  case round =>
    obtain ⟨p, hpn, rfl, xs, hxs, hown, hoy, hox, hu⟩ := hrel
    clear hown6 hoy6 hox6 hu6w
    by_cases hlt : p < n
    · rcases id hown with ⟨hl1, ⟨_, hz⟩ | ⟨b, cap, cur, hv, hb, hgg, hnc, hcm, _⟩⟩
      · omega
      · injection hv with v1 v2 v3
        subst v1 v3
        unfold maxLen at hcm
        have hb1 := hA1 b rfl
        obtain ⟨u, hu0⟩ : ∃ u, xs[p]? = some u := ⟨_, List.getElem?_eq_getElem (by omega)⟩
        obtain ⟨z, rfl⟩ := hxs u (List.mem_of_getElem? hu0)
        have hcell := World.ownsRow.cells hown (g := b) rfl p _ hu0
        rw [add0] at hcell
        have hfz := obj_frozen hgg p
        have y2 := obj_cell hoy 2
        simp only [List.getElem?_toArray, List.getElem?_cons_zero, List.getElem?_cons_succ] at y2
        have hc1 : c1 ≤ 9223372036854775807 := by omega
        have HOW := Lib.hid hown
        have HOY := Lib.hid hoy
        have HOX := Lib.hid hox
        have HXS := Lib.hid hxs
        clear hown hoy hox hgg hu0 hxs hl1 v2 hcm
        go_wp2
        go_roundw
        case rel =>
          refine ⟨p + 1, by omega, by go_num, xs.set p (.int .u8 _), fun u hu => ?_, owns_set HOW.out p hlt _, obj_fr HOY.out ((Fr.refl b b wr).setCell (p := ⟨b, p, none⟩) (.inl rfl) _) (by omega) (by omega), obj_fr HOX.out ((Fr.refl b b wr).setCell (p := ⟨b, p, none⟩) (.inl rfl) _) (by omega) (by omega), hu.fr ((Fr.refl b b wr).setCell (p := ⟨b, p, none⟩) (.inl rfl) _) (by omega) (by omega)⟩
          rcases List.mem_or_eq_of_mem_set hu with h | h
          · exact HXS.out u h
          · exact ⟨_, h⟩
        case measure => simp [intOf]; omega
    · have hpn2 : p = n := by omega
      subst hpn2
      have y2 := obj_cell hoy 2
      simp only [List.getElem?_toArray, List.getElem?_cons_zero, List.getElem?_cons_succ] at y2
      have HX := Lib.hid (fun w' (hu : Up wr.drew w') => obj_up (w := wr.drew) hox hu)
      have hud := hu.trans (Up.refl wr).drew
      clear hown hoy hox hxs
      go_wp2_with fail
      refine wp_region_pi [(0, false), (1, false), (2, false), (4, false), (3, true), (5, true), (6, false), (7, false)] (by kernel_rfl) (by kernel_rfl) (fun _ _ d _ _ h => by cases d <;> exact h) ?_
      iterate 4 (((with_reducible apply pi_take); (focus exact rfl); (focus exact rfl); (focus (intro w' hu; have cx0 := obj_cell (HX.out w' hu) 0; have cx1 := obj_cell (HX.out w' hu) 1; have cx2 := obj_cell (HX.out w' hu) 2; simp only [List.getElem?_toArray, List.getElem?_cons_zero, List.getElem?_cons_succ] at cx0 cx1 cx2; go_simp; try with_reducible rfl; done))); (simp only [Act.put, List.setIfInBounds_toArray, List.set_cons_succ, List.set_cons_zero]))
      refine pi_make rfl rfl (fun K hK => ?_)
      go_simp
      refine (HST.out _ hud).mono ?_
      rintro e w7 ⟨A7, c7, rfl, hr7, _, hu7⟩
      refine hK.out _ _ hu7 ?_
      clear hK K
      refine pi_make rfl rfl (fun K hK => ?_)
      go_simp
      refine (HSM.out _ A7 c7 (hud.trans hu7) hr7).mono ?_
      rintro e w8 ⟨rfl, hu8⟩
      refine hK.out _ _ hu8 ?_
      clear hK K
      iterate 2 (((with_reducible apply pi_take); (focus exact rfl); (focus exact rfl); (focus (intro w' hu; go_simp; try with_reducible rfl; done))); (simp only [Act.put, List.setIfInBounds_toArray, List.set_cons_succ, List.set_cons_zero]))
      refine pi_done ?_
      go_wp2
      go_ret
      exact ⟨rfl, (hud.trans hu7).trans hu8⟩

end Go.Proofs.Ytdkegfookbgicaa
