/- The document's stream: Write, the other cases. -/
import Derived.Test.YtipemmjbgegmfaaGreatDoorStu
import Derived.Test.YtipemmjbgegmfaaGreatDoorPit
namespace Go.Proofs.YtipemmjbgegmfaaGreatDoor
open Go.RowKit Go.Proofs.YtipemmjbgegmfaaGreatDoor.Ordr Go.Proofs.YtipemmjbgegmfaaGreatDoor.Cmpr

set_option maxRecDepth 100000 in
set_option maxHeartbeats 3200000 in
theorem write_ref_bad (s : SS) (A : Option Addr) (n c : Nat) (w : World) (hr : Rd w A c (bs s.held)) (hn : n = s.held.length) (he : s.err = 0) (B : Option Addr) (m d : Nat) (b : List UInt8) (hs : Rd w B d (bs b)) (hm : m = b.length) (hnm : n + m ≤ 4000)
    (hi : s.inn ≤ 2199023255552) (ho : s.out ≤ 2199023255552) (hsi : s.sin < 4294967296) (hso : s.sout < 4294967296) (k : Nat) (hf : U.fault (s.held ++ b) = (k : Int)) (hno : ¬ U.opn ((s.held ++ b).drop k)) :
    Calls Tryz.prog 10 #[aggR s A n c, .slice B m d] w (WrP (s.write b) (s.told b) A c w) := by
  have hbad : BadB (s.held ++ b) := ⟨by omega, by rw [hf]; exact hno⟩
  have hkn : k ≤ n + m := by have := (U.fault_ge (s.held ++ b)).2; rw [hf, List.length_append, ← hn, ← hm] at this; omega
  have HFIN : ∀ w', Up w w' → WrP (s.write b) (s.told b) A c w (.returned (.tuple #[.agg #[.int .i64 (s.inn : Int), .int .i64 (s.out : Int), .int .u32 (s.sin : Int), .int .u32 (s.sout : Int), .slice none 0 0, .int .i64 6], .slice none 0 0, .int .i64 6])) w' := fun w' u => by
    rw [(SS.write_bad he hbad).1, (SS.write_bad he hbad).2]
    exact ⟨none, 0, none, 0, rfl, Rd.empty w', Rd.empty w', .inr (fun a h => by cases h), (fun a h => by cases h), u⟩
  have HFIN := Lib.hid HFIN
  have HNO := Lib.hid (decide_eq_false hno)
  clear hbad hno
  have hlh : (s.held ++ b).length = n + m := by rw [List.length_append, hn, hm]
  have HLH := Lib.hid hlh
  unfold aggR cellsR
  rw [he]
  obtain ⟨w2, hw2⟩ : ∃ w2, (w.alloc (.cells #[.int .i64 (s.inn : Int), .int .i64 (s.out : Int), .int .u32 (s.sin : Int), .int .u32 (s.sout : Int), .slice A n c, .int .i64 0] 33)).alloc (.cells #[.int .i64 0, .int .i64 0, .int .u32 0, .int .u32 0, .slice none 0 0, .int .i64 0] 33) = w2 := ⟨_, rfl⟩
  have hu2 : Up w w2 := by rw [← hw2]; exact ((Up.refl w).alloc _).alloc _
  have ob : w2.heap[w.heap.size]? = some (.cells #[.int .i64 (s.inn : Int), .int .i64 (s.out : Int), .int .u32 (s.sin : Int), .int .u32 (s.sout : Int), .slice A n c, .int .i64 0] 33 (0, 0)) := by rw [← hw2]; exact heap_alloc2_old w _ _
  have oz : w2.heap[w.heap.size + 1]? = some (.cells #[.int .i64 0, .int .i64 0, .int .u32 0, .int .u32 0, .slice none 0 0, .int .i64 0] 33 (0, 0)) := by rw [← hw2]; exact heap_alloc2_new w _ _
  obtain ⟨x0, x1, x2, x3, x4, x5⟩ := six_cells ob
  have x4a := (six_cells (obj_up ob ((Up.refl w2).alloc (.cells #[] 5)))).2.2.2.2.1
  obtain ⟨A1, q1, w3a, A2, q2, w3, r1, r2, _, _, _, hu3, hown3⟩ := two_app w2 (hr.up hu2) hn (hs.up hu2) hm (by omega)
  have Q1 := Lib.hid r1
  have Q2 := Lib.hid r2
  have HW2 := Lib.hid (show w.heap.size + 1 < w2.heap.size from obj_lt oz)
  have o3 := obj_up ob hu3
  have z3 := obj_up oz hu3
  have f4 := (six_open o3).2.2.2.2.1
  have y4 := (six_cells o3).2.2.2.2.1
  obtain ⟨w4, h4⟩ : ∃ w4, w3.setCell ⟨w.heap.size, 4, none⟩ (.slice A2 (n + m) q2) = w4 := ⟨_, rfl⟩
  have o4 : w4.heap[w.heap.size]? = some (.cells #[.int .i64 (s.inn : Int), .int .i64 (s.out : Int), .int .u32 (s.sin : Int), .int .u32 (s.sout : Int), .slice A2 (n + m) q2, .int .i64 0] 33 (0, 0)) := by rw [← h4]; exact obj_set o3 4 _
  have fr4 : Fr w.heap.size w.heap.size w3 w4 := by rw [← h4]; exact (Fr.refl _ _ w3).setCell (p := ⟨w.heap.size, 4, none⟩) (.inl rfl) _
  have z4 := obj_fr z3 fr4 (by omega) (by omega)
  have own4 := own_fr hown3 fr4 (fun x hx => by have := (hown3.lt x hx).1; have := HW2.out; omega)
  have hu4 : Up w w4 := (hu2.trans hu3).fr fr4 (by omega) (by omega)
  have c5 := fault_ref A2 q2 (n + m) (s.held ++ b) w4 (own_read own4) hlh.symm
  rw [hf] at c5
  clear hf
  have C5 := Lib.hid c5
  have HO4 := Lib.hid o4
  have HZ4 := Lib.hid z4
  have HOW := Lib.hid own4
  have HU4 := Lib.hid hu4
  obtain ⟨v0, v1, v2, v3, v4, v5⟩ := six_cells o4
  clear hr hs ob oz r1 r2 hu3 hown3 o3 z3 o4 fr4 z4 own4 hu4 hu2 c5 hlh hn hm he
  generalize s.held ++ b = h at *
  generalize hQ : WrP (s.write b) (s.told b) A c w = Q at *
  have HQ := Lib.hid hQ
  clear hQ
  generalize s.inn = i at *
  generalize s.out = o at *
  generalize s.sin = si at *
  generalize s.sout = so at *
  generalize n + m = nm at *
  go_enter Tryz.func10, Tryz.ntmps10
  have tok : True := trivial
  go_wp2_with (first | (rw [hw2]) | (at_builtin; have _t := tok; refine wpList_app rfl _ _ _ rfl rfl rfl Q1.out ?_; clear tok) | (at_builtin; refine wpList_app rfl _ _ _ rfl rfl rfl Q2.out ?_) | (rw [h4]))
  clear Q1 Q2 hw2 x0 x1 x2 x3 x4 x5 x4a f4 y4 h4
  refine C5.out.mono ?_
  rintro e w5 ⟨rfl, hu5⟩
  clear C5 v0 v1 v2 v3 v4 v5
  have HO5 := Lib.hid (obj_up HO4.out hu5)
  have HZ5 := Lib.hid (obj_up HZ4.out hu5)
  obtain ⟨x0, x1, x2, x3, x4, x5⟩ := six_cells HO5.out
  obtain ⟨A3, hsl3, hr3⟩ := (own_read HOW.out).tail nm k HLH.out.symm hkn
  have c6 := Lib.hid (ropen_ref A3 (q2 - k) (nm - k) (h.drop k) w5 (hr3.up hu5) (by rw [List.length_drop, HLH.out]))
  rw [HNO.out] at c6
  generalize q2 - k = q3 at *
  generalize nm - k = n3 at *
  go_wp2_with fail
  refine c6.out.mono ?_
  rintro e w6 ⟨rfl, hu6⟩
  clear x0 x1 x2 x3 x4 x5
  have o6 := obj_up HO5.out hu6
  have z6 := obj_up HZ5.out hu6
  obtain ⟨x0, x1, x2, x3, x4, x5⟩ := six_cells o6
  obtain ⟨m0, m1, m2, m3, m4, m5⟩ := six_open z6
  obtain ⟨n0, n1, n2, n3', n4, n5⟩ := six_cells z6
  have o7 := Lib.hid (put6_obj z6 (.int .i64 (i : Int)) (.int .i64 (o : Int)) (.int .u32 (si : Int)) (.int .u32 (so : Int)) (.slice none 0 0) (.int .i64 6))
  have fr7 := Lib.hid (put6_fr w6 (w.heap.size + 1) (.int .i64 (i : Int)) (.int .i64 (o : Int)) (.int .u32 (si : Int)) (.int .u32 (so : Int)) (.slice none 0 0) (.int .i64 6))
  have HU6 := Lib.hid (HU4.out.trans (hu5.trans hu6))
  clear o6 z6 c6 hsl3 hr3
  go_wp2_with fail
  refine ret_struct2 (x := .slice none 0 0) (y := .int .i64 6) rfl rfl rfl rfl o7.out Tryz.underlying33 rfl info10 rfl ?_
  have hfin := HFIN.out (put6 w6 (w.heap.size + 1) (.int .i64 (i : Int)) (.int .i64 (o : Int)) (.int .u32 (si : Int)) (.int .u32 (so : Int)) (.slice none 0 0) (.int .i64 6)) (HU6.out.fr fr7.out (by omega) (by omega))
  exact hfin

set_option maxRecDepth 100000 in
set_option maxHeartbeats 3200000 in
theorem write_ref_right (s : SS) (A : Option Addr) (n c : Nat) (w : World) (hr : Rd w A c (bs s.held)) (hn : n = s.held.length) (he : s.err = 0) (B : Option Addr) (m d : Nat) (b : List UInt8) (hs : Rd w B d (bs b)) (hm : m = b.length) (hnm : n + m ≤ 4000)
    (hi : s.inn ≤ 2199023255552) (ho : s.out ≤ 2199023255552) (hsi : s.sin < 4294967296) (hso : s.sout < 4294967296) (hf : U.fault (s.held ++ b) = -1) :
    Calls Tryz.prog 10 #[aggR s A n c, .slice B m d] w (WrP (s.write b) (s.told b) A c w) := by
  obtain ⟨cs, hcp, hrc, rr, hrr⟩ := right_cps (s.held ++ b)
  have hnb : ¬ BadB (s.held ++ b) := fun hb => by have := hb.1; omega
  have hwo := SS.write_ok he hnb
  have hsb : safeB (rightOf (s.held ++ b)) = (U.encs (cs.take (safeOf cs))).length := by rw [hrc, safeB_encs hcp]
  have htk : (s.held ++ b).take (safeB (rightOf (s.held ++ b))) = U.encs (cs.take (safeOf cs)) := by
    rw [hsb]
    conv => lhs; rw [hrr]; rw [← List.take_append_drop (safeOf cs) cs, U.encs_append, List.append_assoc]
    rw [List.take_append_drop]
    exact List.take_left
  have hkk : safeB (rightOf (s.held ++ b)) ≤ n + m := by
    have h1 := congrArg List.length htk
    rw [List.length_take, ← hsb, List.length_append, ← hn, ← hm] at h1
    omega
  have hlr : (rightOf (s.held ++ b)).length = n + m := by unfold rightOf; rw [if_neg (by omega), List.length_append, hn, hm]
  have hrg : rightOf (s.held ++ b) = s.held ++ b := by unfold rightOf; rw [if_neg (by omega)]
  have SAFE0 := fun A' c' w' (h : Rd w' A' c' (bs (rightOf (s.held ++ b)))) => safe_ref10 A' (n + m) c' (rightOf (s.held ++ b)) w' h hlr.symm (by omega) ⟨cs, hcp, hrc⟩
  have GIVE0 := fun A' c' w' (h : Rd w' A' c' (bs (s.held ++ b))) => give_ref ⟨s.inn, s.out, s.sin, s.sout, s.held ++ b, s.err⟩ A' (n + m) c' (safeB (rightOf (s.held ++ b))) w' h (by show n + m = (s.held ++ b).length; rw [List.length_append, hn, hm]) hkk hnm ⟨_, cps_take hcp (safeOf cs), htk⟩ hi ho hsi hso
  have HFIN : ∀ w' B4 cb D4 dd, Up w w' → Rd w' B4 cb (bs ((s.held ++ b).drop (safeB (rightOf (s.held ++ b))))) → (∀ a, B4 = some a → w.heap.size ≤ a.block) → Rd w' D4 dd (bs (txt ((s.held ++ b).take (safeB (rightOf (s.held ++ b)))))) → (∀ a, D4 = some a → w.heap.size ≤ a.block) →
      WrP (s.write b) (s.told b) A c w (.returned (.tuple #[aggR (s.give (s.held ++ b) (safeB (rightOf (s.held ++ b)))) B4 ((s.held ++ b).drop (safeB (rightOf (s.held ++ b)))).length cb, .slice D4 (txt ((s.held ++ b).take (safeB (rightOf (s.held ++ b))))).length dd, .int .i64 0])) w' := fun w' B4 cb D4 dd u h1 h2 h3 h4 => by
    rw [hwo.1, hwo.2]
    refine ⟨B4, cb, D4, dd, ?_, h1, h3, .inr h2, h4, u⟩
    show _ = Ending.returned (.tuple #[_, _, .int .i64 (s.err : Int)])
    rw [he]; rfl
  have HFIN := Lib.hid HFIN
  have SAFE0 := Lib.hid SAFE0
  have GIVE0 := Lib.hid GIVE0
  clear hnb hwo hsb htk hcp hrc hrr hi ho hsi hso
  have hlh : (s.held ++ b).length = n + m := by rw [List.length_append, hn, hm]
  have HLH := Lib.hid hlh
  have he0 := Lib.hid he
  unfold aggR cellsR
  rw [he]
  obtain ⟨w2, hw2⟩ : ∃ w2, (w.alloc (.cells #[.int .i64 (s.inn : Int), .int .i64 (s.out : Int), .int .u32 (s.sin : Int), .int .u32 (s.sout : Int), .slice A n c, .int .i64 0] 33)).alloc (.cells #[.int .i64 0, .int .i64 0, .int .u32 0, .int .u32 0, .slice none 0 0, .int .i64 0] 33) = w2 := ⟨_, rfl⟩
  have hu2 : Up w w2 := by rw [← hw2]; exact ((Up.refl w).alloc _).alloc _
  have ob : w2.heap[w.heap.size]? = some (.cells #[.int .i64 (s.inn : Int), .int .i64 (s.out : Int), .int .u32 (s.sin : Int), .int .u32 (s.sout : Int), .slice A n c, .int .i64 0] 33 (0, 0)) := by rw [← hw2]; exact heap_alloc2_old w _ _
  have oz : w2.heap[w.heap.size + 1]? = some (.cells #[.int .i64 0, .int .i64 0, .int .u32 0, .int .u32 0, .slice none 0 0, .int .i64 0] 33 (0, 0)) := by rw [← hw2]; exact heap_alloc2_new w _ _
  obtain ⟨x0, x1, x2, x3, x4, x5⟩ := six_cells ob
  have x4a := (six_cells (obj_up ob ((Up.refl w2).alloc (.cells #[] 5)))).2.2.2.2.1
  obtain ⟨A1, q1, w3a, A2, q2, w3, r1, r2, _, _, _, hu3, hown3⟩ := two_app w2 (hr.up hu2) hn (hs.up hu2) hm (by omega)
  have Q1 := Lib.hid r1
  have Q2 := Lib.hid r2
  have HW2 := Lib.hid (show w.heap.size + 1 < w2.heap.size from obj_lt oz)
  have o3 := obj_up ob hu3
  have z3 := obj_up oz hu3
  have f4 := (six_open o3).2.2.2.2.1
  have y4 := (six_cells o3).2.2.2.2.1
  obtain ⟨w4, h4⟩ : ∃ w4, w3.setCell ⟨w.heap.size, 4, none⟩ (.slice A2 (n + m) q2) = w4 := ⟨_, rfl⟩
  have o4 : w4.heap[w.heap.size]? = some (.cells #[.int .i64 (s.inn : Int), .int .i64 (s.out : Int), .int .u32 (s.sin : Int), .int .u32 (s.sout : Int), .slice A2 (n + m) q2, .int .i64 0] 33 (0, 0)) := by rw [← h4]; exact obj_set o3 4 _
  have fr4 : Fr w.heap.size w.heap.size w3 w4 := by rw [← h4]; exact (Fr.refl _ _ w3).setCell (p := ⟨w.heap.size, 4, none⟩) (.inl rfl) _
  have z4 := obj_fr z3 fr4 (by omega) (by omega)
  have own4 := own_fr hown3 fr4 (fun x hx => by have := (hown3.lt x hx).1; have := HW2.out; omega)
  have hu4 : Up w w4 := (hu2.trans hu3).fr fr4 (by omega) (by omega)
  have hu3s := Lib.hid hu3.size
  have fr4s := Lib.hid fr4.size
  have c5 := fault_ref A2 q2 (n + m) (s.held ++ b) w4 (own_read own4) hlh.symm
  rw [hf] at c5
  clear hf hlr
  have C5 := Lib.hid c5
  have HO4 := Lib.hid o4
  have HZ4 := Lib.hid z4
  have HOW := Lib.hid own4
  have HU4 := Lib.hid hu4
  obtain ⟨v0, v1, v2, v3, v4, v5⟩ := six_cells o4
  clear hr hs ob oz r1 r2 hu3 hown3 o3 z3 o4 fr4 z4 own4 hu4 hu2 c5 hlh hn hm he
  have HW4 := Lib.hid (show w2.heap.size ≤ w4.heap.size from Nat.le_trans hu3s.out fr4s.out)
  have hsg : ∃ i2 o2 si2 so2 : Nat, s.give (s.held ++ b) (safeB (rightOf (s.held ++ b))) = ⟨i2, o2, si2, so2, (s.held ++ b).drop (safeB (rightOf (s.held ++ b))), 0⟩ := ⟨_, _, _, _, by unfold SS.give; rw [he0.out]⟩
  obtain ⟨i2, o2, si2, so2, hsg⟩ := hsg
  have GIVE1 := Lib.hid (fun A' c' w' h => show Calls Tryz.prog 22 #[.agg #[.int .i64 (s.inn : Int), .int .i64 (s.out : Int), .int .u32 (s.sin : Int), .int .u32 (s.sout : Int), .slice A' (n + m) c', .int .i64 0], .int .i64 (safeB (rightOf (s.held ++ b)) : Int)] w' fun e w'' => ∃ B cb D d, e = .returned (.tuple #[.agg #[.int .i64 (i2 : Int), .int .i64 (o2 : Int), .int .u32 (si2 : Int), .int .u32 (so2 : Int), .slice B ((s.held ++ b).drop (safeB (rightOf (s.held ++ b)))).length cb, .int .i64 0], .slice D (txt ((s.held ++ b).take (safeB (rightOf (s.held ++ b))))).length d]) ∧
      w''.ownsRow w'.heap.size 5 1 (.slice B ((s.held ++ b).drop (safeB (rightOf (s.held ++ b)))).length cb) ((s.held ++ b).drop (safeB (rightOf (s.held ++ b)))).length (bs ((s.held ++ b).drop (safeB (rightOf (s.held ++ b))))) ∧ w''.ownsRow w'.heap.size 5 1 (.slice D (txt ((s.held ++ b).take (safeB (rightOf (s.held ++ b))))).length d) (txt ((s.held ++ b).take (safeB (rightOf (s.held ++ b))))).length (bs (txt ((s.held ++ b).take (safeB (rightOf (s.held ++ b)))))) ∧ Up w' w'' from by
    have := GIVE0.out A' c' w' h
    unfold aggR cellsR at this
    rw [show SS.give ⟨s.inn, s.out, s.sin, s.sout, s.held ++ b, s.err⟩ (s.held ++ b) (safeB (rightOf (s.held ++ b))) = s.give (s.held ++ b) (safeB (rightOf (s.held ++ b))) from rfl, hsg] at this
    rw [show ((⟨s.inn, s.out, s.sin, s.sout, s.held ++ b, s.err⟩ : SS).err : Int) = 0 from by show (s.err : Int) = 0; rw [he0.out]; rfl] at this
    exact this)
  have HFIN1 := Lib.hid (fun w' B4 cb D4 dd u h1 h2 h3 h4 => show WrP (s.write b) (s.told b) A c w (.returned (.tuple #[.agg #[.int .i64 (i2 : Int), .int .i64 (o2 : Int), .int .u32 (si2 : Int), .int .u32 (so2 : Int), .slice B4 ((s.held ++ b).drop (safeB (rightOf (s.held ++ b)))).length cb, .int .i64 0], .slice D4 (txt ((s.held ++ b).take (safeB (rightOf (s.held ++ b))))).length dd, .int .i64 0])) w' from by
    have := HFIN.out w' B4 cb D4 dd u h1 h2 h3 h4
    rw [hsg] at this
    exact this)
  have HRG := Lib.hid hrg
  clear GIVE0 HFIN hsg hrg
  generalize hkk2 : safeB (rightOf (s.held ++ b)) = kk at *
  clear hkk2
  generalize rightOf (s.held ++ b) = rg at *
  generalize s.held ++ b = h at *
  generalize txt (h.take kk) = T at *
  generalize h.drop kk = R at *
  have HNB := Lib.hid (rfl : R.length = R.length)
  generalize R.length = nb at *
  generalize T.length = nt at *
  generalize hQ : WrP (s.write b) (s.told b) A c w = Q at *
  have HQ := Lib.hid hQ
  clear hQ
  generalize s.inn = i at *
  generalize s.out = o at *
  generalize s.sin = si at *
  generalize s.sout = so at *
  generalize n + m = nm at *
  go_enter Tryz.func10, Tryz.ntmps10
  have tok : True := trivial
  go_wp2_with (first | (rw [hw2]) | (at_builtin; have _t := tok; refine wpList_app rfl _ _ _ rfl rfl rfl Q1.out ?_; clear tok) | (at_builtin; refine wpList_app rfl _ _ _ rfl rfl rfl Q2.out ?_) | (rw [h4]))
  clear Q1 Q2 hw2 x0 x1 x2 x3 x4 x5 x4a f4 y4 h4
  refine C5.out.mono ?_
  rintro e w5 ⟨rfl, hu5⟩
  clear C5 v0 v1 v2 v3 v4 v5
  have HO5 := Lib.hid (obj_up HO4.out hu5)
  have HZ5 := Lib.hid (obj_up HZ4.out hu5)
  obtain ⟨x0, x1, x2, x3, x4, x5⟩ := six_cells HO5.out
  have SAFE := Lib.hid (fun w' (u : Up w5 w') => SAFE0.out A2 q2 w' (by rw [HRG.out]; exact (own_read HOW.out).up (hu5.trans u)))
  have GIVE := Lib.hid (fun w' (u : Up w5 w') => GIVE1.out A2 q2 w' ((own_read HOW.out).up (hu5.trans u)))
  have HFIN := HFIN1
  go_wp2_with fail
  have HX := Lib.hid (fun w' (u : Up w5 w') => six_cells (obj_up HO5.out u))
  have HU5 := Lib.hid (HU4.out.trans hu5)
  have HSZ := Lib.hid (show w.heap.size + 1 < w5.heap.size by have := HW2.out; have := HW4.out; have := hu5.size; omega)
  refine wp_region_ot (R := fun a b => Up w5 a → Up w5 b) (.take 0 (.take 1 (.fork 2 (.fork 3 (.take 4 (.take 5 (.take 6 (.make 7 (.make 8 (.take 9 .nil)))))) 7 (.make 3 (.take 4 (.take 5 (.take 6 (.make 8 (.take 9 .nil))))))) 7 (.make 2 (.make 3 (.take 4 (.take 5 (.take 6 (.make 8 (.take 9 .nil)))))))))) (kept_up w5) (by kernel_rfl) (by kernel_rfl) (fun _ _ d _ _ h => by cases d <;> exact h) ?_
  have hud : Up w5 w5.drew := (Up.refl w5).drew
  clear x0 x1 x2 x3 x4 x5
  generalize w5.drew = wd at *
  ((with_reducible apply ot_take); (focus exact rfl); (focus exact rfl); (focus (intro w' u1; obtain ⟨x0, x1, x2, x3, x4, x5⟩ := HX.out w' (u1 hud); go_simp; try with_reducible rfl; done)); (try dsimp only [Act.put]); (try simp only [List.setIfInBounds_toArray, List.set_cons_succ, List.set_cons_zero]))
  ((with_reducible apply ot_take); (focus exact rfl); (focus exact rfl); (focus (intro w' u1;  go_simp; try with_reducible rfl; done)); (try dsimp only [Act.put]); (try simp only [List.setIfInBounds_toArray, List.set_cons_succ, List.set_cons_zero]))
  refine ot_fork rfl rfl rfl rfl (fun K hK => ?_) (fun K hK => ?_)
  · go_simp
    refine (SAFE.out wd hud).mono ?_
    rintro e w6_ ⟨rfl, hy⟩
    have huw6_ := (hud).trans hy
    refine hK.out _ _ (fun _ => huw6_) ?_
    clear hK K hy
    refine ot_fork rfl rfl rfl rfl (fun K hK => ?_) (fun K hK => ?_)
    · go_simp
      refine (GIVE.out w6_ huw6_).mono ?_
      rintro e w7_ ⟨B4, cb, D4, dd, rfl, hOB, hOD, hy⟩
      have huw7_ := (huw6_).trans hy
      refine hK.out _ _ (fun _ => huw7_) ?_
      have hlo : w.heap.size + 1 < w6_.heap.size := by have := HSZ.out; have := (huw6_).size; omega
      generalize w6_.heap.size = lo at *
      clear hK K hy
      ((with_reducible apply ot_take); (focus exact rfl); (focus exact rfl); (focus (intro w' u1;  go_simp; try with_reducible rfl; done)); (try dsimp only [Act.put]); (try simp only [List.setIfInBounds_toArray, List.set_cons_succ, List.set_cons_zero]))
      ((with_reducible apply ot_take); (focus exact rfl); (focus exact rfl); (focus (intro w' u1;  go_simp; try with_reducible rfl; done)); (try dsimp only [Act.put]); (try simp only [List.setIfInBounds_toArray, List.set_cons_succ, List.set_cons_zero]))
      ((with_reducible apply ot_take); (focus exact rfl); (focus exact rfl); (focus (intro w' u1;  go_simp; try with_reducible rfl; done)); (try dsimp only [Act.put]); (try simp only [List.setIfInBounds_toArray, List.set_cons_succ, List.set_cons_zero]))
      refine ot_make rfl rfl (fun K hK => ?_)
      go_simp
      refine hK.out _ _ (fun _ => (huw7_).alloc _) ?_
      have oV := heap_alloc_new w7_ (.cells #[.int .i64 0, .int .i64 0, .int .u32 0, .int .u32 0, .slice none 0 0, .int .i64 0] 33)
      have hy : Up w7_ (w7_.alloc (.cells #[.int .i64 0, .int .i64 0, .int .u32 0, .int .u32 0, .slice none 0 0, .int .i64 0] 33)) := (Up.refl w7_).alloc _
      have huw8_ := (huw7_).trans hy
      have hv9 : w5.heap.size ≤ w7_.heap.size := (huw7_).size
      have hOB0 := hOB
      have hOD0 := hOD
      have hOB := own_up hOB hy
      have hOD := own_up hOD hy
      have hvb2 : ∀ x, (Value.slice B4 nb cb).ownBlock = some x → x < w7_.heap.size := fun x hx => (hOB0.lt x hx).2
      have hvd2 : ∀ x, (Value.slice D4 nt dd).ownBlock = some x → x < w7_.heap.size := fun x hx => (hOD0.lt x hx).2
      generalize w7_.alloc (.cells #[.int .i64 0, .int .i64 0, .int .u32 0, .int .u32 0, .slice none 0 0, .int .i64 0] 33) = w8_ at *
      generalize w7_.heap.size = v9 at *
      clear hK K hy
      refine ot_make rfl rfl (fun K hK => ?_)
      obtain ⟨wF, hF⟩ : ∃ wF, put6 w8_ v9 (.int .i64 (i2 : Int)) (.int .i64 (o2 : Int)) (.int .u32 (si2 : Int)) (.int .u32 (so2 : Int)) (.slice B4 nb cb) (.int .i64 0) = wF := ⟨_, rfl⟩
      have oF := put6_obj oV (.int .i64 (i2 : Int)) (.int .i64 (o2 : Int)) (.int .u32 (si2 : Int)) (.int .u32 (so2 : Int)) (.slice B4 nb cb) (.int .i64 0)
      have fF := put6_fr w8_ v9 (.int .i64 (i2 : Int)) (.int .i64 (o2 : Int)) (.int .u32 (si2 : Int)) (.int .u32 (so2 : Int)) (.slice B4 nb cb) (.int .i64 0)
      rw [hF] at oF fF
      unfold put6 at hF
      obtain ⟨n0, n1, n2, n3, n4, n5⟩ := six_cells oV
      obtain ⟨m0, m1, m2, m3, m4, m5⟩ := six_open oV
      have huF := (huw8_).fr fF hv9 hv9
      have zF := obj_fr (obj_up HZ5.out (huw8_)) fF (by have := HSZ.out; omega) (by have := HSZ.out; omega)
      have hOB := own_fr hOB fF (fun x hx => by have := hvb2 x hx; omega)
      have hOD := own_fr hOD fF (fun x hx => by have := hvd2 x hx; omega)
      go_simp
      try rw [hF]
      refine hK.out _ _ (fun _ => huF) ?_
      clear hK K n0 n1 n2 n3 n4 n5 m0 m1 m2 m3 m4 m5 hF oV
      ((with_reducible apply ot_take); (focus exact rfl); (focus exact rfl); (focus (intro w' u1;  go_simp; try with_reducible rfl; done)); (try dsimp only [Act.put]); (try simp only [List.setIfInBounds_toArray, List.set_cons_succ, List.set_cons_zero]))
      refine ot_done ?_
      obtain ⟨x0, x1, x2, x3, x4, x5⟩ := six_cells oF
      obtain ⟨n0, n1, n2, n3, n4, n5⟩ := six_cells zF
      obtain ⟨m0, m1, m2, m3, m4, m5⟩ := six_open zF
      have o7 := Lib.hid (put6_obj zF (.int .i64 (i2 : Int)) (.int .i64 (o2 : Int)) (.int .u32 (si2 : Int)) (.int .u32 (so2 : Int)) (.slice B4 nb cb) (.int .i64 0))
      have fr7 := Lib.hid (put6_fr wF (w.heap.size + 1) (.int .i64 (i2 : Int)) (.int .i64 (o2 : Int)) (.int .u32 (si2 : Int)) (.int .u32 (so2 : Int)) (.slice B4 nb cb) (.int .i64 0))
      have HB := Lib.hid (own_fr hOB fr7.out (fun x hx => by have := (hOB.lt x hx).1; omega))
      have HD := Lib.hid (own_fr hOD fr7.out (fun x hx => by have := (hOD.lt x hx).1; omega))
      have HUF := Lib.hid ((HU5.out.trans huF).fr fr7.out (by omega) (by omega))
      have HLO := Lib.hid hlo
      clear oF zF fF hOB hOD
      go_wp2_with fail
      refine ret_struct2 (x := .slice D4 nt dd) (y := .int .i64 0) rfl rfl rfl rfl o7.out Tryz.underlying33 rfl info10 rfl ?_
      exact HFIN.out (put6 wF (w.heap.size + 1) (.int .i64 (i2 : Int)) (.int .i64 (o2 : Int)) (.int .u32 (si2 : Int)) (.int .u32 (so2 : Int)) (.slice B4 nb cb) (.int .i64 0)) B4 cb D4 dd HUF.out (own_read HB.out) (fun a ha => by
        subst ha
        have := (HB.out.lt a.block rfl).1
        have := HLO.out
        omega) (own_read HD.out) (fun a ha => by
        subst ha
        have := (HD.out.lt a.block rfl).1
        have := HLO.out
        omega)
    · go_simp
      refine hK.out _ _ (fun _ => (huw6_).alloc _) ?_
      have oV := heap_alloc_new w6_ (.cells #[.int .i64 0, .int .i64 0, .int .u32 0, .int .u32 0, .slice none 0 0, .int .i64 0] 33)
      have hy : Up w6_ (w6_.alloc (.cells #[.int .i64 0, .int .i64 0, .int .u32 0, .int .u32 0, .slice none 0 0, .int .i64 0] 33)) := (Up.refl w6_).alloc _
      have huw7_ := (huw6_).trans hy
      have hv9 : w5.heap.size ≤ w6_.heap.size := (huw6_).size
      generalize w6_.alloc (.cells #[.int .i64 0, .int .i64 0, .int .u32 0, .int .u32 0, .slice none 0 0, .int .i64 0] 33) = w7_ at *
      generalize w6_.heap.size = v9 at *
      clear hK K hy
      refine ot_make rfl rfl (fun K hK => ?_)
      go_simp
      refine (GIVE.out w7_ huw7_).mono ?_
      rintro e w8_ ⟨B4, cb, D4, dd, rfl, hOB, hOD, hy⟩
      have huw8_ := (huw7_).trans hy
      refine hK.out _ _ (fun _ => huw8_) ?_
      have hlo : w.heap.size + 1 < w7_.heap.size := by have := HSZ.out; have := (huw7_).size; omega
      have hvb : v9 < w7_.heap.size := obj_lt oV
      have oV := obj_up oV hy
      generalize w7_.heap.size = lo at *
      clear hK K hy
      ((with_reducible apply ot_take); (focus exact rfl); (focus exact rfl); (focus (intro w' u1;  go_simp; try with_reducible rfl; done)); (try dsimp only [Act.put]); (try simp only [List.setIfInBounds_toArray, List.set_cons_succ, List.set_cons_zero]))
      ((with_reducible apply ot_take); (focus exact rfl); (focus exact rfl); (focus (intro w' u1;  go_simp; try with_reducible rfl; done)); (try dsimp only [Act.put]); (try simp only [List.setIfInBounds_toArray, List.set_cons_succ, List.set_cons_zero]))
      ((with_reducible apply ot_take); (focus exact rfl); (focus exact rfl); (focus (intro w' u1;  go_simp; try with_reducible rfl; done)); (try dsimp only [Act.put]); (try simp only [List.setIfInBounds_toArray, List.set_cons_succ, List.set_cons_zero]))
      refine ot_make rfl rfl (fun K hK => ?_)
      obtain ⟨wF, hF⟩ : ∃ wF, put6 w8_ v9 (.int .i64 (i2 : Int)) (.int .i64 (o2 : Int)) (.int .u32 (si2 : Int)) (.int .u32 (so2 : Int)) (.slice B4 nb cb) (.int .i64 0) = wF := ⟨_, rfl⟩
      have oF := put6_obj oV (.int .i64 (i2 : Int)) (.int .i64 (o2 : Int)) (.int .u32 (si2 : Int)) (.int .u32 (so2 : Int)) (.slice B4 nb cb) (.int .i64 0)
      have fF := put6_fr w8_ v9 (.int .i64 (i2 : Int)) (.int .i64 (o2 : Int)) (.int .u32 (si2 : Int)) (.int .u32 (so2 : Int)) (.slice B4 nb cb) (.int .i64 0)
      rw [hF] at oF fF
      unfold put6 at hF
      obtain ⟨n0, n1, n2, n3, n4, n5⟩ := six_cells oV
      obtain ⟨m0, m1, m2, m3, m4, m5⟩ := six_open oV
      have huF := (huw8_).fr fF hv9 hv9
      have zF := obj_fr (obj_up HZ5.out (huw8_)) fF (by have := HSZ.out; omega) (by have := HSZ.out; omega)
      have hOB := own_fr hOB fF (fun x hx => by have := (hOB.lt x hx).1; omega)
      have hOD := own_fr hOD fF (fun x hx => by have := (hOD.lt x hx).1; omega)
      go_simp
      try rw [hF]
      refine hK.out _ _ (fun _ => huF) ?_
      clear hK K n0 n1 n2 n3 n4 n5 m0 m1 m2 m3 m4 m5 hF oV
      ((with_reducible apply ot_take); (focus exact rfl); (focus exact rfl); (focus (intro w' u1;  go_simp; try with_reducible rfl; done)); (try dsimp only [Act.put]); (try simp only [List.setIfInBounds_toArray, List.set_cons_succ, List.set_cons_zero]))
      refine ot_done ?_
      obtain ⟨x0, x1, x2, x3, x4, x5⟩ := six_cells oF
      obtain ⟨n0, n1, n2, n3, n4, n5⟩ := six_cells zF
      obtain ⟨m0, m1, m2, m3, m4, m5⟩ := six_open zF
      have o7 := Lib.hid (put6_obj zF (.int .i64 (i2 : Int)) (.int .i64 (o2 : Int)) (.int .u32 (si2 : Int)) (.int .u32 (so2 : Int)) (.slice B4 nb cb) (.int .i64 0))
      have fr7 := Lib.hid (put6_fr wF (w.heap.size + 1) (.int .i64 (i2 : Int)) (.int .i64 (o2 : Int)) (.int .u32 (si2 : Int)) (.int .u32 (so2 : Int)) (.slice B4 nb cb) (.int .i64 0))
      have HB := Lib.hid (own_fr hOB fr7.out (fun x hx => by have := (hOB.lt x hx).1; omega))
      have HD := Lib.hid (own_fr hOD fr7.out (fun x hx => by have := (hOD.lt x hx).1; omega))
      have HUF := Lib.hid ((HU5.out.trans huF).fr fr7.out (by omega) (by omega))
      have HLO := Lib.hid hlo
      clear oF zF fF hOB hOD
      go_wp2_with fail
      refine ret_struct2 (x := .slice D4 nt dd) (y := .int .i64 0) rfl rfl rfl rfl o7.out Tryz.underlying33 rfl info10 rfl ?_
      exact HFIN.out (put6 wF (w.heap.size + 1) (.int .i64 (i2 : Int)) (.int .i64 (o2 : Int)) (.int .u32 (si2 : Int)) (.int .u32 (so2 : Int)) (.slice B4 nb cb) (.int .i64 0)) B4 cb D4 dd HUF.out (own_read HB.out) (fun a ha => by
        subst ha
        have := (HB.out.lt a.block rfl).1
        have := HLO.out
        omega) (own_read HD.out) (fun a ha => by
        subst ha
        have := (HD.out.lt a.block rfl).1
        have := HLO.out
        omega)
  · go_simp
    refine hK.out _ _ (fun _ => (hud).alloc _) ?_
    have oV := heap_alloc_new wd (.cells #[.int .i64 0, .int .i64 0, .int .u32 0, .int .u32 0, .slice none 0 0, .int .i64 0] 33)
    have hy : Up wd (wd.alloc (.cells #[.int .i64 0, .int .i64 0, .int .u32 0, .int .u32 0, .slice none 0 0, .int .i64 0] 33)) := (Up.refl wd).alloc _
    have huw6_ := (hud).trans hy
    have hv9 : w5.heap.size ≤ wd.heap.size := (hud).size
    generalize wd.alloc (.cells #[.int .i64 0, .int .i64 0, .int .u32 0, .int .u32 0, .slice none 0 0, .int .i64 0] 33) = w6_ at *
    generalize wd.heap.size = v9 at *
    clear hK K hy
    refine ot_make rfl rfl (fun K hK => ?_)
    go_simp
    refine (SAFE.out w6_ huw6_).mono ?_
    rintro e w7_ ⟨rfl, hy⟩
    have huw7_ := (huw6_).trans hy
    refine hK.out _ _ (fun _ => huw7_) ?_
    have oV := obj_up oV hy
    clear hK K hy
    refine ot_make rfl rfl (fun K hK => ?_)
    go_simp
    refine (GIVE.out w7_ huw7_).mono ?_
    rintro e w8_ ⟨B4, cb, D4, dd, rfl, hOB, hOD, hy⟩
    have huw8_ := (huw7_).trans hy
    refine hK.out _ _ (fun _ => huw8_) ?_
    have hlo : w.heap.size + 1 < w7_.heap.size := by have := HSZ.out; have := (huw7_).size; omega
    have hvb : v9 < w7_.heap.size := obj_lt oV
    have oV := obj_up oV hy
    generalize w7_.heap.size = lo at *
    clear hK K hy
    ((with_reducible apply ot_take); (focus exact rfl); (focus exact rfl); (focus (intro w' u1;  go_simp; try with_reducible rfl; done)); (try dsimp only [Act.put]); (try simp only [List.setIfInBounds_toArray, List.set_cons_succ, List.set_cons_zero]))
    ((with_reducible apply ot_take); (focus exact rfl); (focus exact rfl); (focus (intro w' u1;  go_simp; try with_reducible rfl; done)); (try dsimp only [Act.put]); (try simp only [List.setIfInBounds_toArray, List.set_cons_succ, List.set_cons_zero]))
    ((with_reducible apply ot_take); (focus exact rfl); (focus exact rfl); (focus (intro w' u1;  go_simp; try with_reducible rfl; done)); (try dsimp only [Act.put]); (try simp only [List.setIfInBounds_toArray, List.set_cons_succ, List.set_cons_zero]))
    refine ot_make rfl rfl (fun K hK => ?_)
    obtain ⟨wF, hF⟩ : ∃ wF, put6 w8_ v9 (.int .i64 (i2 : Int)) (.int .i64 (o2 : Int)) (.int .u32 (si2 : Int)) (.int .u32 (so2 : Int)) (.slice B4 nb cb) (.int .i64 0) = wF := ⟨_, rfl⟩
    have oF := put6_obj oV (.int .i64 (i2 : Int)) (.int .i64 (o2 : Int)) (.int .u32 (si2 : Int)) (.int .u32 (so2 : Int)) (.slice B4 nb cb) (.int .i64 0)
    have fF := put6_fr w8_ v9 (.int .i64 (i2 : Int)) (.int .i64 (o2 : Int)) (.int .u32 (si2 : Int)) (.int .u32 (so2 : Int)) (.slice B4 nb cb) (.int .i64 0)
    rw [hF] at oF fF
    unfold put6 at hF
    obtain ⟨n0, n1, n2, n3, n4, n5⟩ := six_cells oV
    obtain ⟨m0, m1, m2, m3, m4, m5⟩ := six_open oV
    have huF := (huw8_).fr fF hv9 hv9
    have zF := obj_fr (obj_up HZ5.out (huw8_)) fF (by have := HSZ.out; omega) (by have := HSZ.out; omega)
    have hOB := own_fr hOB fF (fun x hx => by have := (hOB.lt x hx).1; omega)
    have hOD := own_fr hOD fF (fun x hx => by have := (hOD.lt x hx).1; omega)
    go_simp
    try rw [hF]
    refine hK.out _ _ (fun _ => huF) ?_
    clear hK K n0 n1 n2 n3 n4 n5 m0 m1 m2 m3 m4 m5 hF oV
    ((with_reducible apply ot_take); (focus exact rfl); (focus exact rfl); (focus (intro w' u1;  go_simp; try with_reducible rfl; done)); (try dsimp only [Act.put]); (try simp only [List.setIfInBounds_toArray, List.set_cons_succ, List.set_cons_zero]))
    refine ot_done ?_
    obtain ⟨x0, x1, x2, x3, x4, x5⟩ := six_cells oF
    obtain ⟨n0, n1, n2, n3, n4, n5⟩ := six_cells zF
    obtain ⟨m0, m1, m2, m3, m4, m5⟩ := six_open zF
    have o7 := Lib.hid (put6_obj zF (.int .i64 (i2 : Int)) (.int .i64 (o2 : Int)) (.int .u32 (si2 : Int)) (.int .u32 (so2 : Int)) (.slice B4 nb cb) (.int .i64 0))
    have fr7 := Lib.hid (put6_fr wF (w.heap.size + 1) (.int .i64 (i2 : Int)) (.int .i64 (o2 : Int)) (.int .u32 (si2 : Int)) (.int .u32 (so2 : Int)) (.slice B4 nb cb) (.int .i64 0))
    have HB := Lib.hid (own_fr hOB fr7.out (fun x hx => by have := (hOB.lt x hx).1; omega))
    have HD := Lib.hid (own_fr hOD fr7.out (fun x hx => by have := (hOD.lt x hx).1; omega))
    have HUF := Lib.hid ((HU5.out.trans huF).fr fr7.out (by omega) (by omega))
    have HLO := Lib.hid hlo
    clear oF zF fF hOB hOD
    go_wp2_with fail
    refine ret_struct2 (x := .slice D4 nt dd) (y := .int .i64 0) rfl rfl rfl rfl o7.out Tryz.underlying33 rfl info10 rfl ?_
    exact HFIN.out (put6 wF (w.heap.size + 1) (.int .i64 (i2 : Int)) (.int .i64 (o2 : Int)) (.int .u32 (si2 : Int)) (.int .u32 (so2 : Int)) (.slice B4 nb cb) (.int .i64 0)) B4 cb D4 dd HUF.out (own_read HB.out) (fun a ha => by
      subst ha
      have := (HB.out.lt a.block rfl).1
      have := HLO.out
      omega) (own_read HD.out) (fun a ha => by
      subst ha
      have := (HD.out.lt a.block rfl).1
      have := HLO.out
      omega)

set_option maxRecDepth 100000 in
set_option maxHeartbeats 3200000 in
theorem write_ref_open (s : SS) (A : Option Addr) (n c : Nat) (w : World) (hr : Rd w A c (bs s.held)) (hn : n = s.held.length) (he : s.err = 0) (B : Option Addr) (m d : Nat) (b : List UInt8) (hs : Rd w B d (bs b)) (hm : m = b.length) (hnm : n + m ≤ 4000)
    (hi : s.inn ≤ 2199023255552) (ho : s.out ≤ 2199023255552) (hsi : s.sin < 4294967296) (hso : s.sout < 4294967296) (k : Nat) (hf : U.fault (s.held ++ b) = (k : Int)) (hop : U.opn ((s.held ++ b).drop k)) :
    Calls Tryz.prog 10 #[aggR s A n c, .slice B m d] w (WrP (s.write b) (s.told b) A c w) := by
  have hkn : k ≤ n + m := by have := (U.fault_ge (s.held ++ b)).2; rw [hf, List.length_append, ← hn, ← hm] at this; omega
  obtain ⟨cs, hcp, hrc, rr, hrr⟩ := right_cps (s.held ++ b)
  have hnb : ¬ BadB (s.held ++ b) := fun hb => hb.2 (by rw [hf]; exact hop)
  have hwo := SS.write_ok he hnb
  have hsb : safeB (rightOf (s.held ++ b)) = (U.encs (cs.take (safeOf cs))).length := by rw [hrc, safeB_encs hcp]
  have htk : (s.held ++ b).take (safeB (rightOf (s.held ++ b))) = U.encs (cs.take (safeOf cs)) := by
    rw [hsb]
    conv => lhs; rw [hrr]; rw [← List.take_append_drop (safeOf cs) cs, U.encs_append, List.append_assoc]
    rw [List.take_append_drop]
    exact List.take_left
  have hkk : safeB (rightOf (s.held ++ b)) ≤ n + m := by
    have h1 := congrArg List.length htk
    rw [List.length_take, ← hsb, List.length_append, ← hn, ← hm] at h1
    omega
  have hlr : (rightOf (s.held ++ b)).length = k := by unfold rightOf; rw [if_pos (by omega), hf, List.length_take, List.length_append, ← hn, ← hm]; simp only [Int.toNat_natCast]; omega
  have hrg : rightOf (s.held ++ b) = (s.held ++ b).take k := by unfold rightOf; rw [if_pos (by omega), hf]; simp only [Int.toNat_natCast]
  have HYES := Lib.hid (decide_eq_true hop)
  have SAFE0 := fun A' c' w' (h : Rd w' A' c' (bs (rightOf (s.held ++ b)))) => safe_ref10 A' (k) c' (rightOf (s.held ++ b)) w' h hlr.symm (by omega) ⟨cs, hcp, hrc⟩
  have GIVE0 := fun A' c' w' (h : Rd w' A' c' (bs (s.held ++ b))) => give_ref ⟨s.inn, s.out, s.sin, s.sout, s.held ++ b, s.err⟩ A' (n + m) c' (safeB (rightOf (s.held ++ b))) w' h (by show n + m = (s.held ++ b).length; rw [List.length_append, hn, hm]) hkk hnm ⟨_, cps_take hcp (safeOf cs), htk⟩ hi ho hsi hso
  have HFIN : ∀ w' B4 cb D4 dd, Up w w' → Rd w' B4 cb (bs ((s.held ++ b).drop (safeB (rightOf (s.held ++ b))))) → (∀ a, B4 = some a → w.heap.size ≤ a.block) → Rd w' D4 dd (bs (txt ((s.held ++ b).take (safeB (rightOf (s.held ++ b)))))) → (∀ a, D4 = some a → w.heap.size ≤ a.block) →
      WrP (s.write b) (s.told b) A c w (.returned (.tuple #[aggR (s.give (s.held ++ b) (safeB (rightOf (s.held ++ b)))) B4 ((s.held ++ b).drop (safeB (rightOf (s.held ++ b)))).length cb, .slice D4 (txt ((s.held ++ b).take (safeB (rightOf (s.held ++ b))))).length dd, .int .i64 0])) w' := fun w' B4 cb D4 dd u h1 h2 h3 h4 => by
    rw [hwo.1, hwo.2]
    refine ⟨B4, cb, D4, dd, ?_, h1, h3, .inr h2, h4, u⟩
    show _ = Ending.returned (.tuple #[_, _, .int .i64 (s.err : Int)])
    rw [he]; rfl
  have HFIN := Lib.hid HFIN
  have SAFE0 := Lib.hid SAFE0
  have GIVE0 := Lib.hid GIVE0
  clear hnb hwo hsb htk hcp hrc hrr hi ho hsi hso
  have hlh : (s.held ++ b).length = n + m := by rw [List.length_append, hn, hm]
  have HLH := Lib.hid hlh
  have he0 := Lib.hid he
  unfold aggR cellsR
  rw [he]
  obtain ⟨w2, hw2⟩ : ∃ w2, (w.alloc (.cells #[.int .i64 (s.inn : Int), .int .i64 (s.out : Int), .int .u32 (s.sin : Int), .int .u32 (s.sout : Int), .slice A n c, .int .i64 0] 33)).alloc (.cells #[.int .i64 0, .int .i64 0, .int .u32 0, .int .u32 0, .slice none 0 0, .int .i64 0] 33) = w2 := ⟨_, rfl⟩
  have hu2 : Up w w2 := by rw [← hw2]; exact ((Up.refl w).alloc _).alloc _
  have ob : w2.heap[w.heap.size]? = some (.cells #[.int .i64 (s.inn : Int), .int .i64 (s.out : Int), .int .u32 (s.sin : Int), .int .u32 (s.sout : Int), .slice A n c, .int .i64 0] 33 (0, 0)) := by rw [← hw2]; exact heap_alloc2_old w _ _
  have oz : w2.heap[w.heap.size + 1]? = some (.cells #[.int .i64 0, .int .i64 0, .int .u32 0, .int .u32 0, .slice none 0 0, .int .i64 0] 33 (0, 0)) := by rw [← hw2]; exact heap_alloc2_new w _ _
  obtain ⟨x0, x1, x2, x3, x4, x5⟩ := six_cells ob
  have x4a := (six_cells (obj_up ob ((Up.refl w2).alloc (.cells #[] 5)))).2.2.2.2.1
  obtain ⟨A1, q1, w3a, A2, q2, w3, r1, r2, _, _, _, hu3, hown3⟩ := two_app w2 (hr.up hu2) hn (hs.up hu2) hm (by omega)
  have Q1 := Lib.hid r1
  have Q2 := Lib.hid r2
  have HW2 := Lib.hid (show w.heap.size + 1 < w2.heap.size from obj_lt oz)
  have o3 := obj_up ob hu3
  have z3 := obj_up oz hu3
  have f4 := (six_open o3).2.2.2.2.1
  have y4 := (six_cells o3).2.2.2.2.1
  obtain ⟨w4, h4⟩ : ∃ w4, w3.setCell ⟨w.heap.size, 4, none⟩ (.slice A2 (n + m) q2) = w4 := ⟨_, rfl⟩
  have o4 : w4.heap[w.heap.size]? = some (.cells #[.int .i64 (s.inn : Int), .int .i64 (s.out : Int), .int .u32 (s.sin : Int), .int .u32 (s.sout : Int), .slice A2 (n + m) q2, .int .i64 0] 33 (0, 0)) := by rw [← h4]; exact obj_set o3 4 _
  have fr4 : Fr w.heap.size w.heap.size w3 w4 := by rw [← h4]; exact (Fr.refl _ _ w3).setCell (p := ⟨w.heap.size, 4, none⟩) (.inl rfl) _
  have z4 := obj_fr z3 fr4 (by omega) (by omega)
  have own4 := own_fr hown3 fr4 (fun x hx => by have := (hown3.lt x hx).1; have := HW2.out; omega)
  have hu4 : Up w w4 := (hu2.trans hu3).fr fr4 (by omega) (by omega)
  have hu3s := Lib.hid hu3.size
  have fr4s := Lib.hid fr4.size
  have c5 := fault_ref A2 q2 (n + m) (s.held ++ b) w4 (own_read own4) hlh.symm
  rw [hf] at c5
  clear hf hlr hop
  have C5 := Lib.hid c5
  have HO4 := Lib.hid o4
  have HZ4 := Lib.hid z4
  have HOW := Lib.hid own4
  have HU4 := Lib.hid hu4
  obtain ⟨v0, v1, v2, v3, v4, v5⟩ := six_cells o4
  clear hr hs ob oz r1 r2 hu3 hown3 o3 z3 o4 fr4 z4 own4 hu4 hu2 c5 hlh hn hm he
  have HW4 := Lib.hid (show w2.heap.size ≤ w4.heap.size from Nat.le_trans hu3s.out fr4s.out)
  have hsg : ∃ i2 o2 si2 so2 : Nat, s.give (s.held ++ b) (safeB (rightOf (s.held ++ b))) = ⟨i2, o2, si2, so2, (s.held ++ b).drop (safeB (rightOf (s.held ++ b))), 0⟩ := ⟨_, _, _, _, by unfold SS.give; rw [he0.out]⟩
  obtain ⟨i2, o2, si2, so2, hsg⟩ := hsg
  have GIVE1 := Lib.hid (fun A' c' w' h => show Calls Tryz.prog 22 #[.agg #[.int .i64 (s.inn : Int), .int .i64 (s.out : Int), .int .u32 (s.sin : Int), .int .u32 (s.sout : Int), .slice A' (n + m) c', .int .i64 0], .int .i64 (safeB (rightOf (s.held ++ b)) : Int)] w' fun e w'' => ∃ B cb D d, e = .returned (.tuple #[.agg #[.int .i64 (i2 : Int), .int .i64 (o2 : Int), .int .u32 (si2 : Int), .int .u32 (so2 : Int), .slice B ((s.held ++ b).drop (safeB (rightOf (s.held ++ b)))).length cb, .int .i64 0], .slice D (txt ((s.held ++ b).take (safeB (rightOf (s.held ++ b))))).length d]) ∧
      w''.ownsRow w'.heap.size 5 1 (.slice B ((s.held ++ b).drop (safeB (rightOf (s.held ++ b)))).length cb) ((s.held ++ b).drop (safeB (rightOf (s.held ++ b)))).length (bs ((s.held ++ b).drop (safeB (rightOf (s.held ++ b))))) ∧ w''.ownsRow w'.heap.size 5 1 (.slice D (txt ((s.held ++ b).take (safeB (rightOf (s.held ++ b))))).length d) (txt ((s.held ++ b).take (safeB (rightOf (s.held ++ b))))).length (bs (txt ((s.held ++ b).take (safeB (rightOf (s.held ++ b)))))) ∧ Up w' w'' from by
    have := GIVE0.out A' c' w' h
    unfold aggR cellsR at this
    rw [show SS.give ⟨s.inn, s.out, s.sin, s.sout, s.held ++ b, s.err⟩ (s.held ++ b) (safeB (rightOf (s.held ++ b))) = s.give (s.held ++ b) (safeB (rightOf (s.held ++ b))) from rfl, hsg] at this
    rw [show ((⟨s.inn, s.out, s.sin, s.sout, s.held ++ b, s.err⟩ : SS).err : Int) = 0 from by show (s.err : Int) = 0; rw [he0.out]; rfl] at this
    exact this)
  have HFIN1 := Lib.hid (fun w' B4 cb D4 dd u h1 h2 h3 h4 => show WrP (s.write b) (s.told b) A c w (.returned (.tuple #[.agg #[.int .i64 (i2 : Int), .int .i64 (o2 : Int), .int .u32 (si2 : Int), .int .u32 (so2 : Int), .slice B4 ((s.held ++ b).drop (safeB (rightOf (s.held ++ b)))).length cb, .int .i64 0], .slice D4 (txt ((s.held ++ b).take (safeB (rightOf (s.held ++ b))))).length dd, .int .i64 0])) w' from by
    have := HFIN.out w' B4 cb D4 dd u h1 h2 h3 h4
    rw [hsg] at this
    exact this)
  have HRG := Lib.hid hrg
  clear GIVE0 HFIN hsg hrg
  generalize hkk2 : safeB (rightOf (s.held ++ b)) = kk at *
  clear hkk2
  generalize rightOf (s.held ++ b) = rg at *
  generalize s.held ++ b = h at *
  generalize txt (h.take kk) = T at *
  generalize h.drop kk = R at *
  have HNB := Lib.hid (rfl : R.length = R.length)
  generalize R.length = nb at *
  generalize T.length = nt at *
  generalize hQ : WrP (s.write b) (s.told b) A c w = Q at *
  have HQ := Lib.hid hQ
  clear hQ
  generalize s.inn = i at *
  generalize s.out = o at *
  generalize s.sin = si at *
  generalize s.sout = so at *
  generalize n + m = nm at *
  go_enter Tryz.func10, Tryz.ntmps10
  have tok : True := trivial
  go_wp2_with (first | (rw [hw2]) | (at_builtin; have _t := tok; refine wpList_app rfl _ _ _ rfl rfl rfl Q1.out ?_; clear tok) | (at_builtin; refine wpList_app rfl _ _ _ rfl rfl rfl Q2.out ?_) | (rw [h4]))
  clear Q1 Q2 hw2 x0 x1 x2 x3 x4 x5 x4a f4 y4 h4
  refine C5.out.mono ?_
  rintro e w5 ⟨rfl, hu5⟩
  clear C5 v0 v1 v2 v3 v4 v5
  have HO5 := Lib.hid (obj_up HO4.out hu5)
  have HZ5 := Lib.hid (obj_up HZ4.out hu5)
  obtain ⟨x0, x1, x2, x3, x4, x5⟩ := six_cells HO5.out
  obtain ⟨A3, hsl3, hr3⟩ := (own_read HOW.out).tail nm k HLH.out.symm hkn
  obtain ⟨A4, hsl4, hr4⟩ := (own_read HOW.out).head nm k HLH.out.symm hkn
  have c6 := Lib.hid (ropen_ref A3 (q2 - k) (nm - k) (h.drop k) w5 (hr3.up hu5) (by rw [List.length_drop, HLH.out]))
  rw [HYES.out] at c6
  have HR4 := Lib.hid hr4
  generalize q2 - k = q3 at *
  generalize nm - k = n3 at *
  have tz : decide ((0 : Int) ≤ (k : Int)) = true := decide_eq_true (by omega)
  clear hr4 hr3
  go_wp2_with fail
  refine c6.out.mono ?_
  rintro e w6 ⟨rfl, hu6⟩
  clear x0 x1 x2 x3 x4 x5 c6 hsl3
  have hu56 := hu5.trans hu6
  have HO6 := Lib.hid (obj_up HO5.out hu6)
  have HZ6 := Lib.hid (obj_up HZ5.out hu6)
  clear HO5 HZ5 hu5 hu6
  obtain ⟨x0, x1, x2, x3, x4, x5⟩ := six_cells HO6.out
  have SAFE := Lib.hid (fun w' (u : Up w6 w') => SAFE0.out A4 q2 w' (by rw [HRG.out]; exact HR4.out.up (hu56.trans u)))
  have GIVE := Lib.hid (fun w' (u : Up w6 w') => GIVE1.out A2 q2 w' ((own_read HOW.out).up (hu56.trans u)))
  have HFIN := HFIN1
  go_wp2_with fail
  have HX := Lib.hid (fun w' (u : Up w6 w') => six_cells (obj_up HO6.out u))
  have HU5 := Lib.hid (HU4.out.trans hu56)
  have HSZ := Lib.hid (show w.heap.size + 1 < w6.heap.size by have := HW2.out; have := HW4.out; have := hu56.size; omega)
  refine wp_region_ot (R := fun a b => Up w6 a → Up w6 b) (.take 0 (.take 1 (.fork 2 (.fork 3 (.take 4 (.take 5 (.take 6 (.make 7 (.make 8 (.take 9 .nil)))))) 7 (.make 3 (.take 4 (.take 5 (.take 6 (.make 8 (.take 9 .nil))))))) 7 (.make 2 (.make 3 (.take 4 (.take 5 (.take 6 (.make 8 (.take 9 .nil)))))))))) (kept_up w6) (by kernel_rfl) (by kernel_rfl) (fun _ _ d _ _ h => by cases d <;> exact h) ?_
  have hud : Up w6 w6.drew := (Up.refl w6).drew
  clear x0 x1 x2 x3 x4 x5
  generalize w6.drew = wd at *
  ((with_reducible apply ot_take); (focus exact rfl); (focus exact rfl); (focus (intro w' u1; obtain ⟨x0, x1, x2, x3, x4, x5⟩ := HX.out w' (u1 hud); go_simp; try with_reducible rfl; done)); (try dsimp only [Act.put]); (try simp only [List.setIfInBounds_toArray, List.set_cons_succ, List.set_cons_zero]))
  ((with_reducible apply ot_take); (focus exact rfl); (focus exact rfl); (focus (intro w' u1;  go_simp; try with_reducible rfl; done)); (try dsimp only [Act.put]); (try simp only [List.setIfInBounds_toArray, List.set_cons_succ, List.set_cons_zero]))
  refine ot_fork rfl rfl rfl rfl (fun K hK => ?_) (fun K hK => ?_)
  · go_simp
    refine (SAFE.out wd hud).mono ?_
    rintro e wx_ ⟨rfl, hy⟩
    have huwx_ := (hud).trans hy
    refine hK.out _ _ (fun _ => huwx_) ?_
    clear hK K hy
    refine ot_fork rfl rfl rfl rfl (fun K hK => ?_) (fun K hK => ?_)
    · go_simp
      refine (GIVE.out wx_ huwx_).mono ?_
      rintro e w7_ ⟨B4, cb, D4, dd, rfl, hOB, hOD, hy⟩
      have huw7_ := (huwx_).trans hy
      refine hK.out _ _ (fun _ => huw7_) ?_
      have hlo : w.heap.size + 1 < wx_.heap.size := by have := HSZ.out; have := (huwx_).size; omega
      generalize wx_.heap.size = lo at *
      clear hK K hy
      ((with_reducible apply ot_take); (focus exact rfl); (focus exact rfl); (focus (intro w' u1;  go_simp; try with_reducible rfl; done)); (try dsimp only [Act.put]); (try simp only [List.setIfInBounds_toArray, List.set_cons_succ, List.set_cons_zero]))
      ((with_reducible apply ot_take); (focus exact rfl); (focus exact rfl); (focus (intro w' u1;  go_simp; try with_reducible rfl; done)); (try dsimp only [Act.put]); (try simp only [List.setIfInBounds_toArray, List.set_cons_succ, List.set_cons_zero]))
      ((with_reducible apply ot_take); (focus exact rfl); (focus exact rfl); (focus (intro w' u1;  go_simp; try with_reducible rfl; done)); (try dsimp only [Act.put]); (try simp only [List.setIfInBounds_toArray, List.set_cons_succ, List.set_cons_zero]))
      refine ot_make rfl rfl (fun K hK => ?_)
      go_simp
      refine hK.out _ _ (fun _ => (huw7_).alloc _) ?_
      have oV := heap_alloc_new w7_ (.cells #[.int .i64 0, .int .i64 0, .int .u32 0, .int .u32 0, .slice none 0 0, .int .i64 0] 33)
      have hy : Up w7_ (w7_.alloc (.cells #[.int .i64 0, .int .i64 0, .int .u32 0, .int .u32 0, .slice none 0 0, .int .i64 0] 33)) := (Up.refl w7_).alloc _
      have huw8_ := (huw7_).trans hy
      have hv9 : w6.heap.size ≤ w7_.heap.size := (huw7_).size
      have hOB0 := hOB
      have hOD0 := hOD
      have hOB := own_up hOB hy
      have hOD := own_up hOD hy
      have hvb2 : ∀ x, (Value.slice B4 nb cb).ownBlock = some x → x < w7_.heap.size := fun x hx => (hOB0.lt x hx).2
      have hvd2 : ∀ x, (Value.slice D4 nt dd).ownBlock = some x → x < w7_.heap.size := fun x hx => (hOD0.lt x hx).2
      generalize w7_.alloc (.cells #[.int .i64 0, .int .i64 0, .int .u32 0, .int .u32 0, .slice none 0 0, .int .i64 0] 33) = w8_ at *
      generalize w7_.heap.size = v9 at *
      clear hK K hy
      refine ot_make rfl rfl (fun K hK => ?_)
      obtain ⟨wF, hF⟩ : ∃ wF, put6 w8_ v9 (.int .i64 (i2 : Int)) (.int .i64 (o2 : Int)) (.int .u32 (si2 : Int)) (.int .u32 (so2 : Int)) (.slice B4 nb cb) (.int .i64 0) = wF := ⟨_, rfl⟩
      have oF := put6_obj oV (.int .i64 (i2 : Int)) (.int .i64 (o2 : Int)) (.int .u32 (si2 : Int)) (.int .u32 (so2 : Int)) (.slice B4 nb cb) (.int .i64 0)
      have fF := put6_fr w8_ v9 (.int .i64 (i2 : Int)) (.int .i64 (o2 : Int)) (.int .u32 (si2 : Int)) (.int .u32 (so2 : Int)) (.slice B4 nb cb) (.int .i64 0)
      rw [hF] at oF fF
      unfold put6 at hF
      obtain ⟨n0, n1, n2, n3, n4, n5⟩ := six_cells oV
      obtain ⟨m0, m1, m2, m3, m4, m5⟩ := six_open oV
      have huF := (huw8_).fr fF hv9 hv9
      have zF := obj_fr (obj_up HZ6.out (huw8_)) fF (by have := HSZ.out; omega) (by have := HSZ.out; omega)
      have hOB := own_fr hOB fF (fun x hx => by have := hvb2 x hx; omega)
      have hOD := own_fr hOD fF (fun x hx => by have := hvd2 x hx; omega)
      go_simp
      try rw [hF]
      refine hK.out _ _ (fun _ => huF) ?_
      clear hK K n0 n1 n2 n3 n4 n5 m0 m1 m2 m3 m4 m5 hF oV
      ((with_reducible apply ot_take); (focus exact rfl); (focus exact rfl); (focus (intro w' u1;  go_simp; try with_reducible rfl; done)); (try dsimp only [Act.put]); (try simp only [List.setIfInBounds_toArray, List.set_cons_succ, List.set_cons_zero]))
      refine ot_done ?_
      obtain ⟨x0, x1, x2, x3, x4, x5⟩ := six_cells oF
      obtain ⟨n0, n1, n2, n3, n4, n5⟩ := six_cells zF
      obtain ⟨m0, m1, m2, m3, m4, m5⟩ := six_open zF
      have o7 := Lib.hid (put6_obj zF (.int .i64 (i2 : Int)) (.int .i64 (o2 : Int)) (.int .u32 (si2 : Int)) (.int .u32 (so2 : Int)) (.slice B4 nb cb) (.int .i64 0))
      have fr7 := Lib.hid (put6_fr wF (w.heap.size + 1) (.int .i64 (i2 : Int)) (.int .i64 (o2 : Int)) (.int .u32 (si2 : Int)) (.int .u32 (so2 : Int)) (.slice B4 nb cb) (.int .i64 0))
      have HB := Lib.hid (own_fr hOB fr7.out (fun x hx => by have := (hOB.lt x hx).1; omega))
      have HD := Lib.hid (own_fr hOD fr7.out (fun x hx => by have := (hOD.lt x hx).1; omega))
      have HUF := Lib.hid ((HU5.out.trans huF).fr fr7.out (by omega) (by omega))
      have HLO := Lib.hid hlo
      clear oF zF fF hOB hOD
      go_wp2_with fail
      refine ret_struct2 (x := .slice D4 nt dd) (y := .int .i64 0) rfl rfl rfl rfl o7.out Tryz.underlying33 rfl info10 rfl ?_
      exact HFIN.out (put6 wF (w.heap.size + 1) (.int .i64 (i2 : Int)) (.int .i64 (o2 : Int)) (.int .u32 (si2 : Int)) (.int .u32 (so2 : Int)) (.slice B4 nb cb) (.int .i64 0)) B4 cb D4 dd HUF.out (own_read HB.out) (fun a ha => by
        subst ha
        have := (HB.out.lt a.block rfl).1
        have := HLO.out
        omega) (own_read HD.out) (fun a ha => by
        subst ha
        have := (HD.out.lt a.block rfl).1
        have := HLO.out
        omega)
    · go_simp
      refine hK.out _ _ (fun _ => (huwx_).alloc _) ?_
      have oV := heap_alloc_new wx_ (.cells #[.int .i64 0, .int .i64 0, .int .u32 0, .int .u32 0, .slice none 0 0, .int .i64 0] 33)
      have hy : Up wx_ (wx_.alloc (.cells #[.int .i64 0, .int .i64 0, .int .u32 0, .int .u32 0, .slice none 0 0, .int .i64 0] 33)) := (Up.refl wx_).alloc _
      have huw7_ := (huwx_).trans hy
      have hv9 : w6.heap.size ≤ wx_.heap.size := (huwx_).size
      generalize wx_.alloc (.cells #[.int .i64 0, .int .i64 0, .int .u32 0, .int .u32 0, .slice none 0 0, .int .i64 0] 33) = w7_ at *
      generalize wx_.heap.size = v9 at *
      clear hK K hy
      refine ot_make rfl rfl (fun K hK => ?_)
      go_simp
      refine (GIVE.out w7_ huw7_).mono ?_
      rintro e w8_ ⟨B4, cb, D4, dd, rfl, hOB, hOD, hy⟩
      have huw8_ := (huw7_).trans hy
      refine hK.out _ _ (fun _ => huw8_) ?_
      have hlo : w.heap.size + 1 < w7_.heap.size := by have := HSZ.out; have := (huw7_).size; omega
      have hvb : v9 < w7_.heap.size := obj_lt oV
      have oV := obj_up oV hy
      generalize w7_.heap.size = lo at *
      clear hK K hy
      ((with_reducible apply ot_take); (focus exact rfl); (focus exact rfl); (focus (intro w' u1;  go_simp; try with_reducible rfl; done)); (try dsimp only [Act.put]); (try simp only [List.setIfInBounds_toArray, List.set_cons_succ, List.set_cons_zero]))
      ((with_reducible apply ot_take); (focus exact rfl); (focus exact rfl); (focus (intro w' u1;  go_simp; try with_reducible rfl; done)); (try dsimp only [Act.put]); (try simp only [List.setIfInBounds_toArray, List.set_cons_succ, List.set_cons_zero]))
      ((with_reducible apply ot_take); (focus exact rfl); (focus exact rfl); (focus (intro w' u1;  go_simp; try with_reducible rfl; done)); (try dsimp only [Act.put]); (try simp only [List.setIfInBounds_toArray, List.set_cons_succ, List.set_cons_zero]))
      refine ot_make rfl rfl (fun K hK => ?_)
      obtain ⟨wF, hF⟩ : ∃ wF, put6 w8_ v9 (.int .i64 (i2 : Int)) (.int .i64 (o2 : Int)) (.int .u32 (si2 : Int)) (.int .u32 (so2 : Int)) (.slice B4 nb cb) (.int .i64 0) = wF := ⟨_, rfl⟩
      have oF := put6_obj oV (.int .i64 (i2 : Int)) (.int .i64 (o2 : Int)) (.int .u32 (si2 : Int)) (.int .u32 (so2 : Int)) (.slice B4 nb cb) (.int .i64 0)
      have fF := put6_fr w8_ v9 (.int .i64 (i2 : Int)) (.int .i64 (o2 : Int)) (.int .u32 (si2 : Int)) (.int .u32 (so2 : Int)) (.slice B4 nb cb) (.int .i64 0)
      rw [hF] at oF fF
      unfold put6 at hF
      obtain ⟨n0, n1, n2, n3, n4, n5⟩ := six_cells oV
      obtain ⟨m0, m1, m2, m3, m4, m5⟩ := six_open oV
      have huF := (huw8_).fr fF hv9 hv9
      have zF := obj_fr (obj_up HZ6.out (huw8_)) fF (by have := HSZ.out; omega) (by have := HSZ.out; omega)
      have hOB := own_fr hOB fF (fun x hx => by have := (hOB.lt x hx).1; omega)
      have hOD := own_fr hOD fF (fun x hx => by have := (hOD.lt x hx).1; omega)
      go_simp
      try rw [hF]
      refine hK.out _ _ (fun _ => huF) ?_
      clear hK K n0 n1 n2 n3 n4 n5 m0 m1 m2 m3 m4 m5 hF oV
      ((with_reducible apply ot_take); (focus exact rfl); (focus exact rfl); (focus (intro w' u1;  go_simp; try with_reducible rfl; done)); (try dsimp only [Act.put]); (try simp only [List.setIfInBounds_toArray, List.set_cons_succ, List.set_cons_zero]))
      refine ot_done ?_
      obtain ⟨x0, x1, x2, x3, x4, x5⟩ := six_cells oF
      obtain ⟨n0, n1, n2, n3, n4, n5⟩ := six_cells zF
      obtain ⟨m0, m1, m2, m3, m4, m5⟩ := six_open zF
      have o7 := Lib.hid (put6_obj zF (.int .i64 (i2 : Int)) (.int .i64 (o2 : Int)) (.int .u32 (si2 : Int)) (.int .u32 (so2 : Int)) (.slice B4 nb cb) (.int .i64 0))
      have fr7 := Lib.hid (put6_fr wF (w.heap.size + 1) (.int .i64 (i2 : Int)) (.int .i64 (o2 : Int)) (.int .u32 (si2 : Int)) (.int .u32 (so2 : Int)) (.slice B4 nb cb) (.int .i64 0))
      have HB := Lib.hid (own_fr hOB fr7.out (fun x hx => by have := (hOB.lt x hx).1; omega))
      have HD := Lib.hid (own_fr hOD fr7.out (fun x hx => by have := (hOD.lt x hx).1; omega))
      have HUF := Lib.hid ((HU5.out.trans huF).fr fr7.out (by omega) (by omega))
      have HLO := Lib.hid hlo
      clear oF zF fF hOB hOD
      go_wp2_with fail
      refine ret_struct2 (x := .slice D4 nt dd) (y := .int .i64 0) rfl rfl rfl rfl o7.out Tryz.underlying33 rfl info10 rfl ?_
      exact HFIN.out (put6 wF (w.heap.size + 1) (.int .i64 (i2 : Int)) (.int .i64 (o2 : Int)) (.int .u32 (si2 : Int)) (.int .u32 (so2 : Int)) (.slice B4 nb cb) (.int .i64 0)) B4 cb D4 dd HUF.out (own_read HB.out) (fun a ha => by
        subst ha
        have := (HB.out.lt a.block rfl).1
        have := HLO.out
        omega) (own_read HD.out) (fun a ha => by
        subst ha
        have := (HD.out.lt a.block rfl).1
        have := HLO.out
        omega)
  · go_simp
    refine hK.out _ _ (fun _ => (hud).alloc _) ?_
    have oV := heap_alloc_new wd (.cells #[.int .i64 0, .int .i64 0, .int .u32 0, .int .u32 0, .slice none 0 0, .int .i64 0] 33)
    have hy : Up wd (wd.alloc (.cells #[.int .i64 0, .int .i64 0, .int .u32 0, .int .u32 0, .slice none 0 0, .int .i64 0] 33)) := (Up.refl wd).alloc _
    have huwx_ := (hud).trans hy
    have hv9 : w6.heap.size ≤ wd.heap.size := (hud).size
    generalize wd.alloc (.cells #[.int .i64 0, .int .i64 0, .int .u32 0, .int .u32 0, .slice none 0 0, .int .i64 0] 33) = wx_ at *
    generalize wd.heap.size = v9 at *
    clear hK K hy
    refine ot_make rfl rfl (fun K hK => ?_)
    go_simp
    refine (SAFE.out wx_ huwx_).mono ?_
    rintro e w7_ ⟨rfl, hy⟩
    have huw7_ := (huwx_).trans hy
    refine hK.out _ _ (fun _ => huw7_) ?_
    have oV := obj_up oV hy
    clear hK K hy
    refine ot_make rfl rfl (fun K hK => ?_)
    go_simp
    refine (GIVE.out w7_ huw7_).mono ?_
    rintro e w8_ ⟨B4, cb, D4, dd, rfl, hOB, hOD, hy⟩
    have huw8_ := (huw7_).trans hy
    refine hK.out _ _ (fun _ => huw8_) ?_
    have hlo : w.heap.size + 1 < w7_.heap.size := by have := HSZ.out; have := (huw7_).size; omega
    have hvb : v9 < w7_.heap.size := obj_lt oV
    have oV := obj_up oV hy
    generalize w7_.heap.size = lo at *
    clear hK K hy
    ((with_reducible apply ot_take); (focus exact rfl); (focus exact rfl); (focus (intro w' u1;  go_simp; try with_reducible rfl; done)); (try dsimp only [Act.put]); (try simp only [List.setIfInBounds_toArray, List.set_cons_succ, List.set_cons_zero]))
    ((with_reducible apply ot_take); (focus exact rfl); (focus exact rfl); (focus (intro w' u1;  go_simp; try with_reducible rfl; done)); (try dsimp only [Act.put]); (try simp only [List.setIfInBounds_toArray, List.set_cons_succ, List.set_cons_zero]))
    ((with_reducible apply ot_take); (focus exact rfl); (focus exact rfl); (focus (intro w' u1;  go_simp; try with_reducible rfl; done)); (try dsimp only [Act.put]); (try simp only [List.setIfInBounds_toArray, List.set_cons_succ, List.set_cons_zero]))
    refine ot_make rfl rfl (fun K hK => ?_)
    obtain ⟨wF, hF⟩ : ∃ wF, put6 w8_ v9 (.int .i64 (i2 : Int)) (.int .i64 (o2 : Int)) (.int .u32 (si2 : Int)) (.int .u32 (so2 : Int)) (.slice B4 nb cb) (.int .i64 0) = wF := ⟨_, rfl⟩
    have oF := put6_obj oV (.int .i64 (i2 : Int)) (.int .i64 (o2 : Int)) (.int .u32 (si2 : Int)) (.int .u32 (so2 : Int)) (.slice B4 nb cb) (.int .i64 0)
    have fF := put6_fr w8_ v9 (.int .i64 (i2 : Int)) (.int .i64 (o2 : Int)) (.int .u32 (si2 : Int)) (.int .u32 (so2 : Int)) (.slice B4 nb cb) (.int .i64 0)
    rw [hF] at oF fF
    unfold put6 at hF
    obtain ⟨n0, n1, n2, n3, n4, n5⟩ := six_cells oV
    obtain ⟨m0, m1, m2, m3, m4, m5⟩ := six_open oV
    have huF := (huw8_).fr fF hv9 hv9
    have zF := obj_fr (obj_up HZ6.out (huw8_)) fF (by have := HSZ.out; omega) (by have := HSZ.out; omega)
    have hOB := own_fr hOB fF (fun x hx => by have := (hOB.lt x hx).1; omega)
    have hOD := own_fr hOD fF (fun x hx => by have := (hOD.lt x hx).1; omega)
    go_simp
    try rw [hF]
    refine hK.out _ _ (fun _ => huF) ?_
    clear hK K n0 n1 n2 n3 n4 n5 m0 m1 m2 m3 m4 m5 hF oV
    ((with_reducible apply ot_take); (focus exact rfl); (focus exact rfl); (focus (intro w' u1;  go_simp; try with_reducible rfl; done)); (try dsimp only [Act.put]); (try simp only [List.setIfInBounds_toArray, List.set_cons_succ, List.set_cons_zero]))
    refine ot_done ?_
    obtain ⟨x0, x1, x2, x3, x4, x5⟩ := six_cells oF
    obtain ⟨n0, n1, n2, n3, n4, n5⟩ := six_cells zF
    obtain ⟨m0, m1, m2, m3, m4, m5⟩ := six_open zF
    have o7 := Lib.hid (put6_obj zF (.int .i64 (i2 : Int)) (.int .i64 (o2 : Int)) (.int .u32 (si2 : Int)) (.int .u32 (so2 : Int)) (.slice B4 nb cb) (.int .i64 0))
    have fr7 := Lib.hid (put6_fr wF (w.heap.size + 1) (.int .i64 (i2 : Int)) (.int .i64 (o2 : Int)) (.int .u32 (si2 : Int)) (.int .u32 (so2 : Int)) (.slice B4 nb cb) (.int .i64 0))
    have HB := Lib.hid (own_fr hOB fr7.out (fun x hx => by have := (hOB.lt x hx).1; omega))
    have HD := Lib.hid (own_fr hOD fr7.out (fun x hx => by have := (hOD.lt x hx).1; omega))
    have HUF := Lib.hid ((HU5.out.trans huF).fr fr7.out (by omega) (by omega))
    have HLO := Lib.hid hlo
    clear oF zF fF hOB hOD
    go_wp2_with fail
    refine ret_struct2 (x := .slice D4 nt dd) (y := .int .i64 0) rfl rfl rfl rfl o7.out Tryz.underlying33 rfl info10 rfl ?_
    exact HFIN.out (put6 wF (w.heap.size + 1) (.int .i64 (i2 : Int)) (.int .i64 (o2 : Int)) (.int .u32 (si2 : Int)) (.int .u32 (so2 : Int)) (.slice B4 nb cb) (.int .i64 0)) B4 cb D4 dd HUF.out (own_read HB.out) (fun a ha => by
      subst ha
      have := (HB.out.lt a.block rfl).1
      have := HLO.out
      omega) (own_read HD.out) (fun a ha => by
      subst ha
      have := (HD.out.lt a.block rfl).1
      have := HLO.out
      omega)

/-- The document's Write. -/
theorem write_ref (s : SS) (A : Option Addr) (n c : Nat) (w : World) (hr : Rd w A c (bs s.held)) (hn : n = s.held.length) (he : s.err = 0 ∨ s.err = 6) (B : Option Addr) (m d : Nat) (b : List UInt8) (hs : Rd w B d (bs b)) (hm : m = b.length) (hnm : n + m ≤ 4000)
    (hi : s.inn ≤ 2199023255552) (ho : s.out ≤ 2199023255552) (hsi : s.sin < 4294967296) (hso : s.sout < 4294967296) :
    Calls Tryz.prog 10 #[aggR s A n c, .slice B m d] w (WrP (s.write b) (s.told b) A c w) := by
  rcases he with he | he
  · rcases Int.lt_or_le (U.fault (s.held ++ b)) 0 with hf | hf
    · exact write_ref_right s A n c w hr hn he B m d b hs hm hnm hi ho hsi hso (by have := (U.fault_ge (s.held ++ b)).1; omega)
    · obtain ⟨k, hk⟩ := Int.eq_ofNat_of_zero_le hf
      by_cases hop : U.opn ((s.held ++ b).drop k)
      · exact write_ref_open s A n c w hr hn he B m d b hs hm hnm hi ho hsi hso k hk hop
      · exact write_ref_bad s A n c w hr hn he B m d b hs hm hnm hi ho hsi hso k hk hop
  · rw [(SS.write_err (by omega) b).1, (SS.write_err (by omega) b).2]
    exact write_ref_err s A n c w hr hn he B m d

end Go.Proofs.YtipemmjbgegmfaaGreatDoor
