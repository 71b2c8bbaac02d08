/- The document's stream: what its functions answer. -/
import Derived.Test.YtipemmjbgegmfaaGreatDoorStq
import Derived.Test.YtipemmjbgegmfaaGreatDoorRop
import Derived.Test.YtipemmjbgegmfaaGreatDoorCdx
import Derived.Test.YtipemmjbgegmfaaGreatDoorSux
import Derived.Laws.ResultCell
import Derived.StillTailTactics
namespace Go.Proofs.YtipemmjbgegmfaaGreatDoor
open Go.RowKit Go.Proofs.YtipemmjbgegmfaaGreatDoor.Ordr Go.Proofs.YtipemmjbgegmfaaGreatDoor.Cmpr

/-! ### Results that lie in memory -/
theorem ret_struct1 {P : Program} {fn : Func} {p u : Tmp} {ty : TypeId} (h : fn.results = #[.cell p ty, .tmp u]) {R : Ending → World → Prop} {a : Act} {w : World} {g : Nat} {t : TypeId} {cs : Array Value} {fr : Nat × Nat} {d : TypeDesc} {x : Value}
    (hp : a.tmps.getD p undef = .pointer (some ⟨g, 0, none⟩)) (hx : a.tmps.getD u undef = x) (hg : w.heap[g]? = some (.cells cs t fr))
    (hu : P.underlying ty = some d) (hd : (match d with | .struct _ | .array _ _ => true | _ => false) = true) (hi : (P.info? ty).map (·.size) = some cs.size)
    (hdf : a.defers = []) (hR : R (.returned (.tuple #[.agg cs, x])) w) : bodyPost P fn R .ret a w := by
  refine bodyPost_ret_by ?_ hdf hR
  rw [results_cell_tmp h, hp, hx]
  simp [asAddr, Result.andThen, run_loadVar_row w g t ty cs fr d hg hu hd hi]
theorem results_struct2 {fn : Func} {p u v : Tmp} {ty : TypeId} (h : fn.results = #[.cell p ty, .tmp u, .tmp v]) (tmps : Array Value) (P : Program) (w : World) :
    (results fn tmps).run P w =
      ((asAddr (tmps.getD p undef)).run P w).andThen fun a w₁ => ((loadVar ty a).run P w₁).andThen fun x w₂ => .ok (.tuple #[x, tmps.getD u undef, tmps.getD v undef]) w₂ := by
  simp only [results, h]
  simp [Sem.run_bind, Result.andThen]
theorem ret_struct2 {P : Program} {fn : Func} {p u v : Tmp} {ty : TypeId} (h : fn.results = #[.cell p ty, .tmp u, .tmp v]) {R : Ending → World → Prop} {a : Act} {w : World} {g : Nat} {t : TypeId} {cs : Array Value} {fr : Nat × Nat} {d : TypeDesc} {x y : Value}
    (hp : a.tmps.getD p undef = .pointer (some ⟨g, 0, none⟩)) (hx : a.tmps.getD u undef = x) (hy : a.tmps.getD v undef = y) (hg : w.heap[g]? = some (.cells cs t fr))
    (hu : P.underlying ty = some d) (hd : (match d with | .struct _ | .array _ _ => true | _ => false) = true) (hi : (P.info? ty).map (·.size) = some cs.size)
    (hdf : a.defers = []) (hR : R (.returned (.tuple #[.agg cs, x, y])) w) : bodyPost P fn R .ret a w := by
  refine bodyPost_ret_by ?_ hdf hR
  rw [results_struct2 h, hp, hx, hy]
  simp [asAddr, Result.andThen, run_loadVar_row w g t ty cs fr d hg hu hd hi]
theorem info10 : (Tryz.prog.info? 33).map (·.size) = some 6 := by kernel_rfl

/-! ### Six cells -/
def put4 (w : World) (g : Nat) (x y z u : Value) : World := (((w.setCell ⟨g, 0, none⟩ x).setCell ⟨g, 1, none⟩ y).setCell ⟨g, 2, none⟩ z).setCell ⟨g, 3, none⟩ u
theorem put4_obj {w : World} {g : Nat} {a b c d e f : Value} {t : TypeId} (h : w.heap[g]? = some (.cells #[a, b, c, d, e, f] t (0, 0))) (x y z u : Value) : (put4 w g x y z u).heap[g]? = some (.cells #[x, y, z, u, e, f] t (0, 0)) :=
  obj_set (obj_set (obj_set (obj_set h 0 x) 1 y) 2 z) 3 u
theorem put4_fr (w : World) (g : Nat) (x y z u : Value) : Fr g g w (put4 w g x y z u) :=
  (((Fr.refl g g w).setCell (p := ⟨g, 0, none⟩) (.inl rfl) x).setCell (p := ⟨g, 1, none⟩) (.inl rfl) y).setCell (p := ⟨g, 2, none⟩) (.inl rfl) z |>.setCell (p := ⟨g, 3, none⟩) (.inl rfl) u
def put6 (w : World) (g : Nat) (x y z u v r : Value) : World := (((((w.setCell ⟨g, 0, none⟩ x).setCell ⟨g, 1, none⟩ y).setCell ⟨g, 2, none⟩ z).setCell ⟨g, 3, none⟩ u).setCell ⟨g, 4, none⟩ v).setCell ⟨g, 5, none⟩ r
theorem put6_obj {w : World} {g : Nat} {a b c d e f : Value} {t : TypeId} (h : w.heap[g]? = some (.cells #[a, b, c, d, e, f] t (0, 0))) (x y z u v r : Value) : (put6 w g x y z u v r).heap[g]? = some (.cells #[x, y, z, u, v, r] t (0, 0)) :=
  obj_set (obj_set (obj_set (obj_set (obj_set (obj_set h 0 x) 1 y) 2 z) 3 u) 4 v) 5 r
theorem put6_fr (w : World) (g : Nat) (x y z u v r : Value) : Fr g g w (put6 w g x y z u v r) :=
  ((((((Fr.refl g g w).setCell (p := ⟨g, 0, none⟩) (.inl rfl) x).setCell (p := ⟨g, 1, none⟩) (.inl rfl) y).setCell (p := ⟨g, 2, none⟩) (.inl rfl) z).setCell (p := ⟨g, 3, none⟩) (.inl rfl) u).setCell (p := ⟨g, 4, none⟩) (.inl rfl) v).setCell (p := ⟨g, 5, none⟩) (.inl rfl) r
/-- What is read of six cells. -/
theorem six_cells {w : World} {g : Nat} {a b c d e f : Value} {t : TypeId} (h : w.heap[g]? = some (.cells #[a, b, c, d, e, f] t (0, 0))) :
    w.cell? ⟨g, 0, none⟩ = some a ∧ w.cell? ⟨g, 1, none⟩ = some b ∧ w.cell? ⟨g, 2, none⟩ = some c ∧ w.cell? ⟨g, 3, none⟩ = some d ∧ w.cell? ⟨g, 4, none⟩ = some e ∧ w.cell? ⟨g, 5, none⟩ = some f :=
  ⟨obj_cell h 0, obj_cell h 1, obj_cell h 2, obj_cell h 3, obj_cell h 4, obj_cell h 5⟩
theorem six_open {w : World} {g : Nat} {cur : Array Value} {t : TypeId} (h : w.heap[g]? = some (.cells cur t (0, 0))) :
    w.frozen? ⟨g, 0, none⟩ = false ∧ w.frozen? ⟨g, 1, none⟩ = false ∧ w.frozen? ⟨g, 2, none⟩ = false ∧ w.frozen? ⟨g, 3, none⟩ = false ∧ w.frozen? ⟨g, 4, none⟩ = false ∧ w.frozen? ⟨g, 5, none⟩ = false :=
  ⟨obj_frozen h 0, obj_frozen h 1, obj_frozen h 2, obj_frozen h 3, obj_frozen h 4, obj_frozen h 5⟩

/-- The document's stream, as a value. -/
def cellsR (i o : Int) (si so : Int) (v : Value) (e : Int) : Array Value := #[.int .i64 i, .int .i64 o, .int .u32 si, .int .u32 so, v, .int .i64 e]
def aggR (s : SS) (A : Option Addr) (n c : Nat) : Value := .agg (cellsR s.inn s.out s.sin s.sout (.slice A n c) s.err)

set_option maxRecDepth 100000 in
set_option maxHeartbeats 3200000 in
theorem give_ref (s : SS) (A : Option Addr) (n c k : Nat) (w : World) (hr : Rd w A c (bs s.held)) (hn : n = s.held.length) (hk : k ≤ n) (hn4 : n ≤ 4000) (hcs : ∃ cs, U.Cps cs ∧ s.held.take k = U.encs cs)
    (hi : s.inn ≤ 2199023255552) (ho : s.out ≤ 2199023255552) (hsi : s.sin < 4294967296) (hso : s.sout < 4294967296) :
    Calls Tryz.prog 22 #[aggR s A n c, .int .i64 (k : Int)] w fun e w' => ∃ B cb D d, e = .returned (.tuple #[aggR (s.give s.held k) B (s.held.drop k).length cb, .slice D (txt (s.held.take k)).length d]) ∧
      w'.ownsRow w.heap.size 5 1 (.slice B (s.held.drop k).length cb) (s.held.drop k).length (bs (s.held.drop k)) ∧ w'.ownsRow w.heap.size 5 1 (.slice D (txt (s.held.take k)).length d) (txt (s.held.take k)).length (bs (txt (s.held.take k))) ∧ Up w w' := by
  obtain ⟨cs, hcp, hen⟩ := hcs
  obtain ⟨A1, hsl1, hr1⟩ := hr.head n k hn hk
  obtain ⟨A2, hsl2, hr2⟩ := hr.tail n k hn hk
  have hk2 : (s.held.take k).length = k := by rw [List.length_take]; omega
  have hd2 : (s.held.drop k).length = n - k := by rw [List.length_drop, hn]
  have htl := txt_len (s.held.take k)
  rw [hk2] at htl
  have HTX := Lib.hid (fun w' (u : Up w w') => ntext_ref A1 k c (s.held.take k) w' (hr1.up u) hk2.symm (by omega))
  have HTE := Lib.hid (show txt (s.held.take k) = U.encs (nfcL cs) by rw [hen, txt_encs hcp])
  have HON := Lib.hid (fun v (hv : v < 4294967296) w' (u : Up w w') => on_ref0 A1 k c v hv (s.held.take k) w' (hr1.up u) hk2.symm)
  have HO2 := Lib.hid (fun v (hv : v < 4294967296) D d w' (hr : Rd w' D d (bs (txt (s.held.take k)))) => on_ref0 D (txt (s.held.take k)).length d v hv (txt (s.held.take k)) w' hr rfl)
  have HP := Lib.hid (fun w1 e w' (h : TextP (s.held.take k) w1 e w') => show Up w1 w' ∧ ∃ B c, e = .returned (.tuple #[.slice B (txt (s.held.take k)).length c, .int .i64 0]) ∧ w'.ownsRow w1.heap.size 5 1 (.slice B (txt (s.held.take k)).length c) (txt (s.held.take k)).length (bs (txt (s.held.take k))) from by
    rw [hen] at h
    have := TextP.own hcp h
    rw [← txt_encs hcp, ← hen] at this
    exact this)
  have HD2 := Lib.hid hd2
  have HG := Lib.hid (show s.give s.held k = ⟨s.inn + (s.held.take k).length, s.out + (txt (s.held.take k)).length, crcOn s.sin (s.held.take k), crcOn s.sout (txt (s.held.take k)), s.held.drop k, s.err⟩ from rfl)
  have HKL := Lib.hid hk2
  have HNM := Lib.hid (show (s.held.drop k).length ≤ 4000 by omega)
  have HN2 := Lib.hid hn
  have hc := hr.fit
  rw [bs_len, ← hn] at hc
  have hcm := hr.max
  unfold maxLen at hcm
  clear hr hr1 hcp hen hk2 hd2 hn
  unfold aggR cellsR
  rw [HG.out, HKL.out, HD2.out]
  generalize s.held.take k = L at *
  generalize s.held.drop k = R at *
  generalize txt L = T at *
  generalize s.held = hh at *
  generalize s.inn = i at *
  generalize s.out = o at *
  generalize s.sin = si at *
  generalize s.sout = so at *
  generalize s.err = er at *
  generalize hq : crcOn si L = q1 at *
  generalize hq3 : crcOn so T = q2 at *
  have HQ1 := Lib.hid hq
  have HQ2 := Lib.hid hq3
  clear hq hq3
  obtain ⟨w2, hw2⟩ : ∃ w2, (w.alloc (.cells #[.int .i64 (i : Int), .int .i64 (o : Int), .int .u32 (si : Int), .int .u32 (so : Int), .slice A n c, .int .i64 (er : Int)] 33)).alloc (.cells #[.int .i64 0, .int .i64 0, .int .u32 0, .int .u32 0, .slice none 0 0, .int .i64 0] 33) = w2 := ⟨_, rfl⟩
  have hu2 : Up w w2 := by rw [← hw2]; exact ((Up.refl w).alloc _).alloc _
  have ob : w2.heap[w.heap.size]? = some (.cells #[.int .i64 (i : Int), .int .i64 (o : Int), .int .u32 (si : Int), .int .u32 (so : Int), .slice A n c, .int .i64 (er : Int)] 33 (0, 0)) := by rw [← hw2]; exact heap_alloc2_old w _ _
  have oz : w2.heap[w.heap.size + 1]? = some (.cells #[.int .i64 0, .int .i64 0, .int .u32 0, .int .u32 0, .slice none 0 0, .int .i64 0] 33 (0, 0)) := by rw [← hw2]; exact heap_alloc2_new w _ _
  have x4 := obj_cell ob 4
  simp only [List.getElem?_toArray, List.getElem?_cons_zero, List.getElem?_cons_succ] at x4
  go_enter Tryz.func22, Tryz.ntmps22
  go_wp2_with (rw [hw2])
  clear x4 hw2
  refine (HTX.out w2 hu2).mono ?_
  intro e w3 hp
  obtain ⟨hu3, D, d, rfl, hO3⟩ := HP.out w2 e w3 hp
  have ob3 := obj_up ob (hu3.trans (Up.refl w3).drew)
  have oz3 := obj_up oz (hu3.trans (Up.refl w3).drew)
  have k1 := Lib.hid (HON.out si hsi w3.drew ((hu2.trans hu3).trans (Up.refl w3).drew))
  have k2 := Lib.hid (HO2.out so hso D d w3.drew ((own_read hO3).up (Up.refl w3).drew))
  rw [HQ1.out] at k1
  rw [HQ2.out] at k2
  have HOT := Lib.hid hO3
  have HOB := Lib.hid ob3
  have HOZ := Lib.hid oz3
  have HU3 := Lib.hid (hu2.trans hu3)
  have HW20 := Lib.hid (show w.heap.size + 1 < w2.heap.size from obj_lt oz)
  have x0 := obj_cell ob3 0
  have x1 := obj_cell ob3 1
  have x2 := obj_cell ob3 2
  have x3 := obj_cell ob3 3
  simp only [List.getElem?_toArray, List.getElem?_cons_zero, List.getElem?_cons_succ] at x0 x1 x2 x3
  have f0 := obj_frozen ob3 0
  have f1 := obj_frozen ob3 1
  have f2 := obj_frozen ob3 2
  have f3 := obj_frozen ob3 3
  clear hp HTX HP HON HO2 hO3 ob oz ob3 oz3 hu2 hu3
  generalize htl2 : T.length = tl at *
  have HTL := Lib.hid htl2
  clear htl2
  have HW2 := Lib.hid HW20.out
  generalize hb1 : w.heap.size = b at *
  have HBW := Lib.hid hb1
  clear hb1 HW20
  generalize hbz1 : b + 1 = bz at *
  have HBZ := Lib.hid hbz1
  clear hbz1
  go_wp2_with fail
  refine wp_region_still_tail 23 (by kernel_rfl) (by kernel_rfl) ?_
  simp only [List.take_succ_cons, List.take_zero, List.drop_succ_cons, List.drop_zero]
  iterate 15 still_step
  still_call (k1.out)
  iterate 4 still_step
  still_call (k2.out)
  iterate 2 still_step
  refine wpStill_nil ?_
  change wpList _ _ _ _ _ w3.drew
  have HUD := Lib.hid (show Up w3 w3.drew from (Up.refl w3).drew)
  generalize w3.drew = w4 at *
  -- behind the store
  have HBS := Lib.hid (show b < w4.heap.size from obj_lt HOB.out)
  have hbz : b ≠ bz := by have := HBZ.out; omega
  obtain ⟨C, hC⟩ : ∃ C, put4 w4 b (.int .i64 ((i : Int) + (k : Int))) (.int .i64 ((o : Int) + (tl : Int))) (.int .u32 (q1 : Int)) (.int .u32 (q2 : Int)) = C := ⟨_, rfl⟩
  have oc := put4_obj HOB.out (.int .i64 ((i : Int) + (k : Int))) (.int .i64 ((o : Int) + (tl : Int))) (.int .u32 (q1 : Int)) (.int .u32 (q2 : Int))
  have fc := put4_fr w4 b (.int .i64 ((i : Int) + (k : Int))) (.int .i64 ((o : Int) + (tl : Int))) (.int .u32 (q1 : Int)) (.int .u32 (q2 : Int))
  rw [hC] at oc fc
  unfold put4 at hC
  have HUC := Lib.hid ((HU3.out.trans HUD.out).fr fc (Nat.le_of_eq HBW.out) (Nat.le_of_eq HBW.out))
  have HOC := Lib.hid oc
  have HZC := Lib.hid (obj_fr HOZ.out fc (Ne.symm hbz) (Ne.symm hbz))
  have HTC := Lib.hid (own_fr (own_up HOT.out HUD.out) fc (fun x hx => by have := (HOT.out.lt x hx).1; have := HW2.out; have := HBZ.out; omega))
  obtain ⟨A3, c3, w5, hap, hr5, hu5, ho5⟩ := elB.copy (m := n - k) C 31 (hr2.up HUC.out) (by rw [bs_len]; exact HD2.out.symm) (one_bs R) (by omega) (by decide)
  have x4 := (six_cells (obj_up HOC.out ((Up.refl C).alloc (.cells #[] 5)))).2.2.2.2.1
  have HA := Lib.hid hap
  have HR5 := Lib.hid ho5
  have HU5 := Lib.hid hu5
  clear hap hr5 hu5 ho5 oc fc hr2
  generalize hnk : n - k = nk at *
  have HNK := Lib.hid hnk
  clear hnk
  generalize c - k = ck at *
  have o5 := obj_up HOC.out HU5.out
  have z5 := obj_up HZC.out HU5.out
  have f4 := (six_open o5).2.2.2.2.1
  have y4 := (six_cells o5).2.2.2.2.1
  obtain ⟨w6, h6⟩ : ∃ w6, w5.setCell ⟨b, 4, none⟩ (.slice A3 nk c3) = w6 := ⟨_, rfl⟩
  have o6 : w6.heap[b]? = some (.cells #[.int .i64 ((i : Int) + (k : Int)), .int .i64 ((o : Int) + (tl : Int)), .int .u32 (q1 : Int), .int .u32 (q2 : Int), .slice A3 nk c3, .int .i64 (er : Int)] 33 (0, 0)) := by rw [← h6]; exact obj_set o5 4 _
  have fr6 : Fr b b w5 w6 := by rw [← h6]; exact (Fr.refl b b w5).setCell (p := ⟨b, 4, none⟩) (.inl rfl) _
  have z6 := obj_fr z5 fr6 (Ne.symm hbz) (Ne.symm hbz)
  obtain ⟨g0, g1, g2, g3, g4, g5⟩ := six_cells o6
  obtain ⟨m0, m1, m2, m3, m4, m5⟩ := six_open z6
  obtain ⟨n0, n1, n2, n3, n4, n5⟩ := six_cells z6
  have o7 := put6_obj z6 (.int .i64 ((i : Int) + (k : Int))) (.int .i64 ((o : Int) + (tl : Int))) (.int .u32 (q1 : Int)) (.int .u32 (q2 : Int)) (.slice A3 nk c3) (.int .i64 (er : Int))
  have fr7 := put6_fr w6 bz (.int .i64 ((i : Int) + (k : Int))) (.int .i64 ((o : Int) + (tl : Int))) (.int .u32 (q1 : Int)) (.int .u32 (q2 : Int)) (.slice A3 nk c3) (.int .i64 (er : Int))
  have HC5 := Lib.hid (show C.heap.size = w4.heap.size by rw [← hC]; simp [World.setCell])
  have H7 := Lib.hid (⟨o6, z6, fr6, o7, fr7⟩ : _ ∧ _ ∧ _ ∧ _ ∧ _)
  clear o5 z5 o6 z6 fr6 o7 fr7
  go_wp2_with (first | (rw [hC]) | (at_builtin; refine wpList_app rfl _ _ _ rfl rfl rfl HA.out ?_) | (rw [h6]))
  obtain ⟨o6, z6, fr6, o7, fr7⟩ := H7.out
  have hb4 := HBS.out
  have hz4 : bz < w4.heap.size := obj_lt HOZ.out
  refine ret_struct1 rfl rfl rfl o7 Tryz.underlying33 rfl info10 rfl ⟨A3, c3, D, d, ?_, ?_, ?_, ?_⟩
  · rw [HTL.out, HNK.out]; rfl
  · rw [HNK.out, HBW.out]
    refine own_base (own_fr (own_fr HR5.out fr6 fun x hx => ?_) fr7 fun x hx => ?_) (by rw [HC5.out]; omega)
    · have := (HR5.out.lt x hx).1
      rw [HC5.out] at this
      omega
    · have := (HR5.out.lt x hx).1
      rw [HC5.out] at this
      omega
  · rw [HTL.out, HBW.out]
    refine own_base (own_fr (own_fr (own_up HTC.out HU5.out) fr6 fun x hx => ?_) fr7 fun x hx => ?_) (by have := HW2.out; have := HBZ.out; omega)
    · have := (HTC.out.lt x hx).1
      have := HW2.out; have := HBZ.out
      omega
    · have := (HTC.out.lt x hx).1
      have := HW2.out; have := HBZ.out
      omega
  · exact ((HUC.out.trans HU5.out).fr fr6 (Nat.le_of_eq HBW.out) (Nat.le_of_eq HBW.out)).fr fr7 (by rw [HBW.out]; have := HBZ.out; omega) (by rw [HBW.out]; have := HBZ.out; omega)

end Go.Proofs.YtipemmjbgegmfaaGreatDoor
