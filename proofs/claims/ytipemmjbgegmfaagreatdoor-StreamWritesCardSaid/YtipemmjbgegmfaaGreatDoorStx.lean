/- The document's stream: End. -/
import Derived.Test.YtipemmjbgegmfaaGreatDoorStu
namespace Go.Proofs.YtipemmjbgegmfaaGreatDoor
open Go.RowKit Go.Proofs.YtipemmjbgegmfaaGreatDoor.Ordr Go.Proofs.YtipemmjbgegmfaaGreatDoor.Cmpr

set_option maxRecDepth 100000 in
set_option maxHeartbeats 1600000 in
theorem fin_ref_err (s : SS) (A : Option Addr) (n c : Nat) (w : World) (hr : Rd w A c (bs s.held)) (hn : n = s.held.length) (he : s.err = 6) :
    Calls Tryz.prog 12 #[aggR s A n c] w (WrP s [] A c w) := by
  have HP : ∀ w', Up w w' → WrP s [] A c w (.returned (.tuple #[.agg #[.int .i64 (s.inn : Int), .int .i64 (s.out : Int), .int .u32 (s.sin : Int), .int .u32 (s.sout : Int), .slice A n c, .int .i64 6], .slice none 0 0, .int .i64 6])) w' := fun w' u =>
    ⟨A, c, none, 0, by unfold aggR cellsR; rw [he, hn]; rfl, hr.up u, Rd.empty w', .inl ⟨rfl, rfl⟩, (fun a h => by cases h), u⟩
  have HP := Lib.hid HP
  unfold aggR cellsR
  rw [he]
  clear hr hn
  generalize hQ : WrP s [] A c w = Q at *
  clear hQ
  generalize s.inn = i at *
  generalize s.out = o at *
  generalize s.sin = si at *
  generalize s.sout = so at *
  obtain ⟨w2, hw2⟩ : ∃ w2, (w.alloc (.cells #[.int .i64 (i : Int), .int .i64 (o : Int), .int .u32 (si : Int), .int .u32 (so : Int), .slice A n c, .int .i64 6] 33)).alloc (.cells #[.int .i64 0, .int .i64 0, .int .u32 0, .int .u32 0, .slice none 0 0, .int .i64 0] 33) = w2 := ⟨_, rfl⟩
  have hu2 : Up w w2 := by rw [← hw2]; exact ((Up.refl w).alloc _).alloc _
  have ob : w2.heap[w.heap.size]? = some (.cells #[.int .i64 (i : Int), .int .i64 (o : Int), .int .u32 (si : Int), .int .u32 (so : Int), .slice A n c, .int .i64 6] 33 (0, 0)) := by rw [← hw2]; exact heap_alloc2_old w _ _
  have oz : w2.heap[w.heap.size + 1]? = some (.cells #[.int .i64 0, .int .i64 0, .int .u32 0, .int .u32 0, .slice none 0 0, .int .i64 0] 33 (0, 0)) := by rw [← hw2]; exact heap_alloc2_new w _ _
  obtain ⟨x0, x1, x2, x3, x4, x5⟩ := six_cells ob
  have HOB := Lib.hid (obj_up ob (Up.refl w2).drew)
  have HOZ := Lib.hid (obj_up oz (Up.refl w2).drew)
  have HU2 := Lib.hid (hu2.trans (Up.refl w2).drew)
  clear ob oz hu2
  go_enter Tryz.func12, Tryz.ntmps12
  go_wp2_with (rw [hw2])
  clear x0 x1 x2 x3 x4 x5 hw2
  have HC := Lib.hid (fun w' (h : Fr (w.heap.size + 1) (w.heap.size + 1) w2.drew w') => six_cells (obj_fr HOB.out h (by omega) (by omega)))
  refine wp_region_pir (R := Fr (w.heap.size + 1) (w.heap.size + 1)) [(0, false), (1, false), (2, false), (3, true), (4, false), (5, false)] (kept_fr _ _) (by kernel_rfl) (by kernel_rfl) (fun _ _ d _ _ h => by cases d <;> exact h) ?_
  generalize w2.drew = w3 at *
  iterate 3 (((with_reducible apply pir_take); (focus exact rfl); (focus exact rfl); (focus (intro w' u; obtain ⟨x0, x1, x2, x3, x4, x5⟩ := HC.out w' u; go_simp; try with_reducible rfl; done))); (simp only [Act.put, List.setIfInBounds_toArray, List.set_cons_succ, List.set_cons_zero]))
  obtain ⟨n0, n1, n2, n3, n4, n5⟩ := six_cells HOZ.out
  obtain ⟨m0, m1, m2, m3, m4, m5⟩ := six_open HOZ.out
  have o7 := Lib.hid (put6_obj HOZ.out (.int .i64 (i : Int)) (.int .i64 (o : Int)) (.int .u32 (si : Int)) (.int .u32 (so : Int)) (.slice A n c) (.int .i64 6))
  have fr7 := Lib.hid (put6_fr w3 (w.heap.size + 1) (.int .i64 (i : Int)) (.int .i64 (o : Int)) (.int .u32 (si : Int)) (.int .u32 (so : Int)) (.slice A n c) (.int .i64 6))
  refine pir_make rfl rfl (fun K hK => ?_)
  go_simp
  refine hK.out _ _ fr7.out ?_
  clear hK K
  iterate 2 (((with_reducible apply pir_take); (focus exact rfl); (focus exact rfl); (focus (intro w' u; go_simp; try with_reducible rfl; done))); (simp only [Act.put, List.setIfInBounds_toArray, List.set_cons_succ, List.set_cons_zero]))
  refine pir_done ?_
  go_wp2_with fail
  exact ret_struct2 (x := .slice none 0 0) (y := .int .i64 6) rfl rfl rfl rfl o7.out Tryz.underlying33 rfl info10 rfl (HP.out _ (HU2.out.fr fr7.out (by omega) (by omega)))


set_option maxRecDepth 100000 in
set_option maxHeartbeats 1600000 in
theorem fin_ref_bad (s : SS) (A : Option Addr) (n c : Nat) (w : World) (hr : Rd w A c (bs s.held)) (hn : n = s.held.length) (he : s.err = 0) (hf : 0 ≤ U.fault s.held) :
    Calls Tryz.prog 12 #[aggR s A n c] w (WrP s.fin s.last A c w) := by
  have HFIN : ∀ w', Up w w' → WrP s.fin s.last A c w (.returned (.tuple #[.agg #[.int .i64 (s.inn : Int), .int .i64 (s.out : Int), .int .u32 (s.sin : Int), .int .u32 (s.sout : Int), .slice none 0 0, .int .i64 6], .slice none 0 0, .int .i64 6])) w' := fun w' u => by
    rw [(SS.fin_bad he hf).1, (SS.fin_bad he hf).2]
    exact ⟨none, 0, none, 0, rfl, Rd.empty w', Rd.empty w', .inr (fun a h => by cases h), (fun a h => by cases h), u⟩
  have HFIN := Lib.hid HFIN
  unfold aggR cellsR
  rw [he]
  obtain ⟨w2, hw2⟩ : ∃ w2, (w.alloc (.cells #[.int .i64 (s.inn : Int), .int .i64 (s.out : Int), .int .u32 (s.sin : Int), .int .u32 (s.sout : Int), .slice A n c, .int .i64 0] 33)).alloc (.cells #[.int .i64 0, .int .i64 0, .int .u32 0, .int .u32 0, .slice none 0 0, .int .i64 0] 33) = w2 := ⟨_, rfl⟩
  have hu2 : Up w w2 := by rw [← hw2]; exact ((Up.refl w).alloc _).alloc _
  have ob : w2.heap[w.heap.size]? = some (.cells #[.int .i64 (s.inn : Int), .int .i64 (s.out : Int), .int .u32 (s.sin : Int), .int .u32 (s.sout : Int), .slice A n c, .int .i64 0] 33 (0, 0)) := by rw [← hw2]; exact heap_alloc2_old w _ _
  have oz : w2.heap[w.heap.size + 1]? = some (.cells #[.int .i64 0, .int .i64 0, .int .u32 0, .int .u32 0, .slice none 0 0, .int .i64 0] 33 (0, 0)) := by rw [← hw2]; exact heap_alloc2_new w _ _
  obtain ⟨x0, x1, x2, x3, x4, x5⟩ := six_cells ob
  have C3 := Lib.hid (fault_ref A c n s.held w2 (hr.up hu2) hn)
  have HOB := Lib.hid ob
  have HOZ := Lib.hid oz
  have HU2 := Lib.hid hu2
  have tz : decide ((0 : Int) ≤ U.fault s.held) = true := decide_eq_true hf
  clear hr hn he ob oz hu2
  generalize U.fault s.held = z at *
  generalize hQ : WrP s.fin s.last A c w = Q at *
  have HQ := Lib.hid hQ
  clear hQ
  generalize s.inn = i at *
  generalize s.out = o at *
  generalize s.sin = si at *
  generalize s.sout = so at *
  go_enter Tryz.func12, Tryz.ntmps12
  go_wp2_with (rw [hw2])
  refine C3.out.mono ?_
  rintro e w6 ⟨rfl, hu6⟩
  clear x0 x1 x2 x3 x4 x5 C3 hw2
  have o6 := obj_up HOB.out hu6
  have z6 := obj_up HOZ.out hu6
  obtain ⟨x0, x1, x2, x3, x4, x5⟩ := six_cells o6
  obtain ⟨m0, m1, m2, m3, m4, m5⟩ := six_open z6
  obtain ⟨n0, n1, n2, n3', n4, n5⟩ := six_cells z6
  have o7 := Lib.hid (put6_obj z6 (.int .i64 (i : Int)) (.int .i64 (o : Int)) (.int .u32 (si : Int)) (.int .u32 (so : Int)) (.slice none 0 0) (.int .i64 6))
  have fr7 := Lib.hid (put6_fr w6 (w.heap.size + 1) (.int .i64 (i : Int)) (.int .i64 (o : Int)) (.int .u32 (si : Int)) (.int .u32 (so : Int)) (.slice none 0 0) (.int .i64 6))
  have HU6 := Lib.hid (HU2.out.trans hu6)
  clear o6 z6
  go_wp2_with fail
  refine ret_struct2 (x := .slice none 0 0) (y := .int .i64 6) rfl rfl rfl rfl o7.out Tryz.underlying33 rfl info10 rfl ?_
  exact HFIN.out (put6 w6 (w.heap.size + 1) (.int .i64 (i : Int)) (.int .i64 (o : Int)) (.int .u32 (si : Int)) (.int .u32 (so : Int)) (.slice none 0 0) (.int .i64 6)) (HU6.out.fr fr7.out (by omega) (by omega))

set_option maxRecDepth 100000 in
set_option maxHeartbeats 800000 in
theorem fin_ref_ok (s : SS) (A : Option Addr) (n c : Nat) (w : World) (hr : Rd w A c (bs s.held)) (hn : n = s.held.length) (he : s.err = 0) (hf : U.fault s.held < 0) (hn4 : n ≤ 4000)
    (hi : s.inn ≤ 2199023255552) (ho : s.out ≤ 2199023255552) (hsi : s.sin < 4294967296) (hso : s.sout < 4294967296) :
    Calls Tryz.prog 12 #[aggR s A n c] w (WrP s.fin s.last A c w) := by
  have hfo := SS.fin_ok he (show ¬ 0 ≤ U.fault s.held by omega)
  have htk : s.held.take n = s.held := List.take_of_length_le (by omega)
  have GI0 := fun w' (u : Up w w') => give_ref s A n c n w' (hr.up u) hn (Nat.le_refl _) hn4 (by rw [htk]; obtain ⟨cs, h1, h2⟩ := U.right_of hf; exact ⟨cs, h1, h2⟩) hi ho hsi hso
  obtain ⟨i2, o2, si2, so2, hsg⟩ : ∃ i2 o2 si2 so2 : Nat, s.give s.held n = ⟨i2, o2, si2, so2, s.held.drop n, 0⟩ := ⟨_, _, _, _, by unfold SS.give; rw [he]⟩
  have HFIN : ∀ w' B4 cb D4 dd, Up w w' → Rd w' B4 cb (bs (s.held.drop n)) → (∀ a, B4 = some a → w.heap.size ≤ a.block) → Rd w' D4 dd (bs (txt (s.held.take n))) → (∀ a, D4 = some a → w.heap.size ≤ a.block) →
      WrP s.fin s.last A c w (.returned (.tuple #[.agg #[.int .i64 (i2 : Int), .int .i64 (o2 : Int), .int .u32 (si2 : Int), .int .u32 (so2 : Int), .slice B4 (s.held.drop n).length cb, .int .i64 0], .slice D4 (txt (s.held.take n)).length dd, .int .i64 0])) w' := fun w' B4 cb D4 dd u h1 h2 h3 h4 => by
    rw [hfo.1, hfo.2, ← hn, hsg]
    rw [htk] at h3 ⊢
    exact ⟨B4, cb, D4, dd, rfl, h1, h3, .inr h2, h4, u⟩
  have HFIN := Lib.hid HFIN
  have GIVE := Lib.hid (fun w' (u : Up w w') => show Calls Tryz.prog 22 #[.agg #[.int .i64 (s.inn : Int), .int .i64 (s.out : Int), .int .u32 (s.sin : Int), .int .u32 (s.sout : Int), .slice A n c, .int .i64 0], .int .i64 (n : Int)] w' fun e w'' => ∃ B cb D d, e = .returned (.tuple #[.agg #[.int .i64 (i2 : Int), .int .i64 (o2 : Int), .int .u32 (si2 : Int), .int .u32 (so2 : Int), .slice B (s.held.drop n).length cb, .int .i64 0], .slice D (txt (s.held.take n)).length d]) ∧
      w''.ownsRow w'.heap.size 5 1 (.slice B (s.held.drop n).length cb) (s.held.drop n).length (bs (s.held.drop n)) ∧ w''.ownsRow w'.heap.size 5 1 (.slice D (txt (s.held.take n)).length d) (txt (s.held.take n)).length (bs (txt (s.held.take n))) ∧ Up w' w'' from by
    have := GI0 w' u
    unfold aggR cellsR at this
    rw [hsg, he] at this
    exact this)
  unfold aggR cellsR
  rw [he]
  obtain ⟨w2, hw2⟩ : ∃ w2, (w.alloc (.cells #[.int .i64 (s.inn : Int), .int .i64 (s.out : Int), .int .u32 (s.sin : Int), .int .u32 (s.sout : Int), .slice A n c, .int .i64 0] 33)).alloc (.cells #[.int .i64 0, .int .i64 0, .int .u32 0, .int .u32 0, .slice none 0 0, .int .i64 0] 33) = w2 := ⟨_, rfl⟩
  have hu2 : Up w w2 := by rw [← hw2]; exact ((Up.refl w).alloc _).alloc _
  have ob : w2.heap[w.heap.size]? = some (.cells #[.int .i64 (s.inn : Int), .int .i64 (s.out : Int), .int .u32 (s.sin : Int), .int .u32 (s.sout : Int), .slice A n c, .int .i64 0] 33 (0, 0)) := by rw [← hw2]; exact heap_alloc2_old w _ _
  have oz : w2.heap[w.heap.size + 1]? = some (.cells #[.int .i64 0, .int .i64 0, .int .u32 0, .int .u32 0, .slice none 0 0, .int .i64 0] 33 (0, 0)) := by rw [← hw2]; exact heap_alloc2_new w _ _
  obtain ⟨x0, x1, x2, x3, x4, x5⟩ := six_cells ob
  have C3 := Lib.hid (fault_ref A c n s.held w2 (hr.up hu2) hn)
  have HOB := Lib.hid ob
  have HOZ := Lib.hid oz
  have HU2 := Lib.hid hu2
  have HSZ := Lib.hid (show w.heap.size + 1 < w2.heap.size from obj_lt oz)
  have tz : decide ((0 : Int) ≤ U.fault s.held) = false := decide_eq_false (by omega)
  clear hr hn he ob oz hu2 hsg hfo GI0 htk hi ho hsi hso hf
  generalize U.fault s.held = z at *
  generalize hQ : WrP s.fin s.last A c w = Q at *
  have HQ := Lib.hid hQ
  clear hQ
  generalize txt (s.held.take n) = T at *
  generalize s.held.drop n = R at *
  generalize T.length = nt at *
  generalize R.length = nb at *
  generalize s.inn = i at *
  generalize s.out = o at *
  generalize s.sin = si at *
  generalize s.sout = so at *
  go_enter Tryz.func12, Tryz.ntmps12
  go_wp2_with (rw [hw2])
  refine C3.out.mono ?_
  rintro e w6 ⟨rfl, hu6⟩
  clear x0 x1 x2 x3 x4 x5 C3 hw2
  obtain ⟨x0, x1, x2, x3, x4, x5⟩ := six_cells (obj_up HOB.out hu6)
  have HZ6 := Lib.hid (obj_up HOZ.out hu6)
  go_wp2_with fail
  refine (GIVE.out w6 (HU2.out.trans hu6)).mono ?_
  rintro e w7 ⟨B4, cb, D4, dd, rfl, hOB, hOD, hy⟩
  clear x0 x1 x2 x3 x4 x5
  have hu7 := (HU2.out.trans hu6).trans hy
  have hlo : w.heap.size + 1 < w6.heap.size := by have := HSZ.out; have := hu6.size; omega
  -- the variable that is laid for what give leaves
  have oV := heap_alloc_new w7 (.cells #[.int .i64 0, .int .i64 0, .int .u32 0, .int .u32 0, .slice none 0 0, .int .i64 0] 33)
  have uV : Up w7 (w7.alloc (.cells #[.int .i64 0, .int .i64 0, .int .u32 0, .int .u32 0, .slice none 0 0, .int .i64 0] 33)) := (Up.refl w7).alloc _
  obtain ⟨w8, h8⟩ : ∃ w8, w7.alloc (.cells #[.int .i64 (i2 : Int), .int .i64 (o2 : Int), .int .u32 (si2 : Int), .int .u32 (so2 : Int), .slice B4 nb cb, .int .i64 0] 33) = w8 := ⟨_, rfl⟩
  have o8 : w8.heap[w7.heap.size]? = some (.cells #[.int .i64 (i2 : Int), .int .i64 (o2 : Int), .int .u32 (si2 : Int), .int .u32 (so2 : Int), .slice B4 nb cb, .int .i64 0] 33 (0, 0)) := by rw [← h8]; exact heap_alloc_new w7 _
  have u8 : Up w7 w8 := by rw [← h8]; exact (Up.refl w7).alloc _
  have z8 := obj_up HZ6.out (hy.trans u8)
  obtain ⟨x0, x1, x2, x3, x4, x5⟩ := six_cells o8
  obtain ⟨n0, n1, n2, n3, n4, n5⟩ := six_cells z8
  obtain ⟨m0, m1, m2, m3, m4, m5⟩ := six_open z8
  have o9 := Lib.hid (put6_obj z8 (.int .i64 (i2 : Int)) (.int .i64 (o2 : Int)) (.int .u32 (si2 : Int)) (.int .u32 (so2 : Int)) (.slice B4 nb cb) (.int .i64 0))
  have fr9 := Lib.hid (put6_fr w8 (w.heap.size + 1) (.int .i64 (i2 : Int)) (.int .i64 (o2 : Int)) (.int .u32 (si2 : Int)) (.int .u32 (so2 : Int)) (.slice B4 nb cb) (.int .i64 0))
  have HB := Lib.hid (own_fr (own_up hOB u8) fr9.out (fun x hx => by have := (hOB.lt x hx).1; omega))
  have HD := Lib.hid (own_fr (own_up hOD u8) fr9.out (fun x hx => by have := (hOD.lt x hx).1; omega))
  have HUF := Lib.hid ((hu7.trans u8).fr fr9.out (by omega) (by omega))
  have HLO := Lib.hid hlo
  clear o8 u8 z8 hOB hOD oV uV x0 x1 x2 x3 x4 x5 HZ6 hy hu6 hu7 hlo
  subst h8
  go_wp2_with fail
  refine ret_struct2 (x := .slice D4 nt dd) (y := .int .i64 0) rfl rfl rfl rfl o9.out Tryz.underlying33 rfl info10 rfl ?_
  exact HFIN.out _ B4 cb D4 dd HUF.out (own_read HB.out) (fun a ha => by
    subst ha
    have := (HB.out.lt a.block rfl).1
    have := HLO.out
    omega) (own_read HD.out) (fun a ha => by
    subst ha
    have := (HD.out.lt a.block rfl).1
    have := HLO.out
    omega)

/-- The document's End. -/
theorem fin_ref (s : SS) (A : Option Addr) (n c : Nat) (w : World) (hr : Rd w A c (bs s.held)) (hn : n = s.held.length) (he : s.err = 0 ∨ s.err = 6) (hn4 : n ≤ 4000)
    (hi : s.inn ≤ 2199023255552) (ho : s.out ≤ 2199023255552) (hsi : s.sin < 4294967296) (hso : s.sout < 4294967296) :
    Calls Tryz.prog 12 #[aggR s A n c] w (WrP s.fin s.last A c w) := by
  rcases he with he | he
  · rcases Int.lt_or_le (U.fault s.held) 0 with hf | hf
    · exact fin_ref_ok s A n c w hr hn he hf hn4 hi ho hsi hso
    · exact fin_ref_bad s A n c w hr hn he hf
  · rw [(SS.fin_err (by omega)).1, (SS.fin_err (by omega)).2]
    exact fin_ref_err s A n c w hr hn he

end Go.Proofs.YtipemmjbgegmfaaGreatDoor
