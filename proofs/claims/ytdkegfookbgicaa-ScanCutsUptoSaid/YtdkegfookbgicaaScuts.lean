/- ScanCuts: however bytes are cut in two. Written by program (wip/tools/scuts.py). -/
import Derived.Test.YtdkegfookbgicaaByb
namespace Go.Proofs.Ytdkegfookbgicaa
open Go.RowKit

set_option maxRecDepth 100000 in
set_option maxHeartbeats 1600000 in
theorem scuts_at (w : World) (A : Option Addr) (n c : Nat) (l : List UInt8) (Hf : Hid (l.length = n)) (h : Rd w A c (bs l)) (hn2 : n ≤ 1048576) (a : Int) (ha : 0 ≤ a) (ha2 : a < 65536) :
    Calls Try.prog 6 #[.slice A n c, .int .u16 a] w fun e w' => e = .returned (.bool true) ∧ Up w w' := by
  have hk0 : (0 : Int) ≤ a % ((n : Int) + 1) := Int.emod_nonneg _ (by omega)
  have hk1 : a % ((n : Int) + 1) < (n : Int) + 1 := Int.emod_lt_of_pos _ (by omega)
  go_enter Try.func6, Try.ntmps6
  go_wp2_with fail
  generalize a % ((n : Int) + 1) = z at *
  obtain ⟨k, rfl⟩ := Int.eq_ofNat_of_zero_le hk0
  have hkn : k ≤ n := by omega
  clear hk0 hk1
  obtain ⟨A1, hsl1, hr1⟩ := h.head n k Hf.out.symm hkn
  obtain ⟨A2, hsl2, hr2⟩ := h.tail n k Hf.out.symm hkn
  have hl1 : (l.take k).length = k := by rw [List.length_take, Hf.out]; omega
  have hl2 : (l.drop k).length = n - k := by rw [List.length_drop, Hf.out]
  have hall : (U.St.of (l.take k)).go (l.drop k) = U.St.of l := by rw [U.St.of_go, List.take_append_drop]
  have hok : (U.St.of (l.take k)).ok := U.St.of_ok (by rw [hl1]; omega)
  have hse1 : (U.St.of (l.take k)).seen = k := by rw [U.St.of_seen, hl1]
  have hpe1 : (U.St.of (l.take k)).pend.length ≤ 3 := U.St.of_pend _
  have hse : (U.St.of l).seen = n := by rw [U.St.of_seen, Hf.out]
  have hpe : (U.St.of l).pend.length ≤ 3 := U.St.of_pend _
  have hen : (U.St.of l).end = U.fault l := U.St.of_end l
  have hnew1 := U.St.new_go (l.take k)
  have hnew := U.St.new_go l
  generalize U.St.of (l.take k) = st1 at *
  generalize U.St.of l = st at *
  have Hl1 := Lib.hid hl1
  have Hl2 := Lib.hid hl2
  have Hall := Lib.hid hall
  have Hse1 := Lib.hid hse1
  have Hse := Lib.hid hse
  have Hen := Lib.hid hen
  have Hnew := Lib.hid hnew
  have Hnew1 := Lib.hid hnew1
  have HR1 := Lib.hid hr1
  have HR2 := Lib.hid hr2
  clear hl1 hl2 hall hse1 hse hen hnew hnew1 hr1 hr2
  generalize l.take k = la at *
  generalize l.drop k = lb at *
  refine (new_code w).mono ?_
  rintro e w1 ⟨g, rfl, hsc1, hu1, hg1⟩
  go_wp2_with fail
  refine (new_code w1).mono ?_
  rintro e w2 ⟨q, rfl, hsq, hu2, hq1⟩
  have hgl := hsc1.lt
  have hql := hsq.lt
  have hsc2 := hsc1.up hu2
  have hz1 := hu1.size
  have hz2 := hu2.size
  have huw := hu1.trans hu2
  clear hsc1 hu1 hu2
  have hfe := feed_ok hsc2 (by decide) (by decide) A c n l (h.up huw) Hf.out.symm (by show (0 : Int) + n ≤ _; omega) (h.apart hg1 hg1)
  rw [Hnew.out] at hfe
  go_wp2_with fail
  refine hfe.mono ?_
  rintro e w3 ⟨rfl, k3, hsc3, hk3, hfr⟩
  clear hfe hsc2
  have hsq3 := hsq.fr hfr (by omega) (by omega) (by omega) (by omega)
  have hu3 := huw.fr hfr hg1 hg1
  have hz3 := hfr.size
  have hk3l := hsc3.klt
  clear hsq hfr huw
  have hfe := feed_ok hsq3 (by decide) (by decide) A1 c k la (HR1.out.up hu3) Hl1.out.symm (by show (0 : Int) + k ≤ _; omega) (HR1.out.apart (by omega) (by omega))
  rw [Hnew1.out] at hfe
  go_wp2_with fail
  refine hfe.mono ?_
  rintro e w4 ⟨rfl, k4, hsq4, hk4, hfr⟩
  clear hfe hsq3
  have hsc4 := hsc3.fr hfr (by omega) (by omega) (by omega) (by omega)
  have hu4 := hu3.fr hfr (by omega) (by omega)
  have hz4 := hfr.size
  have hk4l := hsq4.klt
  clear hsc3 hfr hu3
  go_wp2_with fail
  refine (sc_state hsq4 hpe1).mono ?_
  rintro e w5 ⟨A5, c5, rfl, hr5, _, hu⟩
  have hz5 := hu.size
  have hsc5 := hsc4.up hu
  have hsq5 := hsq4.up hu
  have hu5 := hu4.trans hu
  clear hsc4 hsq4 hu hu4
  go_wp2_with fail
  refine (from_ok st1 A5 _ c5 w5 hr5 rfl hok).mono ?_
  rintro e w6 ⟨j, k6, rfl, hsj, hj, hk6, hu⟩
  have hz6 := hu.size
  have hsc6 := hsc5.up hu
  have hsq6 := hsq5.up hu
  have hu6 := hu5.trans hu
  have hjl := hsj.lt
  have hk6l := hsj.klt
  clear hsc5 hsq5 hu hu5 hr5
  have hfe := feed_ok hsj hpe1 (by rw [Hse1.out]; omega) A2 (c - k) (n - k) lb (HR2.out.up hu6) Hl2.out.symm (by rw [Hse1.out]; omega) (HR2.out.apart (by omega) (by omega))
  rw [Hall.out] at hfe
  go_wp2_with fail
  refine hfe.mono ?_
  rintro e w7 ⟨rfl, k7, hsj7, hk7, hfr⟩
  clear hfe hsj
  have hsc7 := hsc6.fr hfr (by omega) (by omega) (by omega) (by omega)
  have hsq7 := hsq6.fr hfr (by omega) (by omega) (by omega) (by omega)
  have hu7 := hu6.fr hfr (by omega) (by omega)
  have hz7 := hfr.size
  have hk7l := hsj7.klt
  clear hsc6 hsq6 hfr hu6
  have hfe := feed_ok hsq7 hpe1 (by rw [Hse1.out]; omega) A2 (c - k) (n - k) lb (HR2.out.up hu7) Hl2.out.symm (by rw [Hse1.out]; omega) (HR2.out.apart (by omega) (by omega))
  rw [Hall.out] at hfe
  go_wp2_with fail
  refine hfe.mono ?_
  rintro e w8 ⟨rfl, k8, hsq8, hk8, hfr⟩
  clear hfe hsq7
  have hsc8 := hsc7.fr hfr (by omega) (by omega) (by omega) (by omega)
  have hsj8 := hsj7.fr hfr (by omega) (by omega) (by omega) (by omega)
  have hu8 := hu7.fr hfr (by omega) (by omega)
  clear hsc7 hsj7 hfr hu7 hsl1 hsl2 hz1 hz2 hz3 hz4 hz5 hz6 hz7 hk3 hk4 hk6 hk7 hk8 hk3l hk4l hk6l hk7l hgl hql hjl hj hg1 hq1
  go_wp2_with fail
  refine (sc_state hsc8 hpe).mono ?_
  rintro e w9 ⟨Ax, cx, rfl, hx9, _, hux⟩
  go_wp2_with fail
  refine (sc_state (hsq8.up hux) hpe).mono ?_
  rintro e wa ⟨Ay, cy, rfl, hya, _, huy⟩
  go_wp2_with fail
  refine (sc_state ((hsj8.up hux).up huy) hpe).mono ?_
  rintro e wb ⟨Az, cz, rfl, hzb, _, huz⟩
  have hub := ((hu8.trans hux).trans huy).trans huz
  have hscb := ((hsc8.up hux).up huy).up huz
  have hxb := (hx9.up huy).up huz
  have hyb := hya.up huz
  clear hsc8 hsq8 hsj8 hux huy huz hx9 hya hu8
  obtain ⟨wc, hwc⟩ : ∃ wc, ((wb.alloc (.cells #[.int .i64 st.seen, .int .i64 st.bad, .slice Ax st.pend.length cx] 36)).alloc (.cells #[.int .i64 st.seen, .int .i64 st.bad, .slice Ay st.pend.length cy] 36)).alloc (.cells #[.int .i64 st.seen, .int .i64 st.bad, .slice Az st.pend.length cz] 36) = wc := ⟨_, rfl⟩
  have huc : Up wb wc := by rw [← hwc]; exact (((Up.refl wb).alloc _).alloc _).alloc _
  have ox : wc.heap[wb.heap.size]? = some (.cells #[.int .i64 st.seen, .int .i64 st.bad, .slice Ax st.pend.length cx] 36 (0, 0)) := by
    rw [← hwc]; exact obj_up (heap_alloc2_old wb _ _) ((Up.refl _).alloc _)
  have oy : wc.heap[wb.heap.size + 1]? = some (.cells #[.int .i64 st.seen, .int .i64 st.bad, .slice Ay st.pend.length cy] 36 (0, 0)) := by
    rw [← hwc]; exact obj_up (heap_alloc2_new wb _ _) ((Up.refl _).alloc _)
  have oz : wc.heap[wb.heap.size + 2]? = some (.cells #[.int .i64 st.seen, .int .i64 st.bad, .slice Az st.pend.length cz] 36 (0, 0)) := by
    rw [← hwc]
    have := heap_alloc_new ((wb.alloc (.cells #[.int .i64 st.seen, .int .i64 st.bad, .slice Ax st.pend.length cx] 36)).alloc (.cells #[.int .i64 st.seen, .int .i64 st.bad, .slice Ay st.pend.length cy] 36)) (.cells #[.int .i64 st.seen, .int .i64 st.bad, .slice Az st.pend.length cz] 36)
    simpa using this
  have dx0 := obj_cell ox 0
  have dx1 := obj_cell ox 1
  have dx2 := obj_cell ox 2
  have dy0 := obj_cell oy 0
  have dy1 := obj_cell oy 1
  have dy2 := obj_cell oy 2
  have dz0 := obj_cell oz 0
  have dz1 := obj_cell oz 1
  have dz2 := obj_cell oz 2
  simp only [List.getElem?_toArray, List.getElem?_cons_zero, List.getElem?_cons_succ] at dx0 dx1 dx2 dy0 dy1 dy2 dz0 dz1 dz2
  rw [Hse.out] at dx0 dy0 dz0
  have hcx := (hxb.up huc).str (n := st.pend.length) rfl
  have hcy := (hyb.up huc).str (n := st.pend.length) rfl
  have hcz := (hzb.up huc).str (n := st.pend.length) rfl
  have hscc := hscb.up huc
  have hucc := hub.trans huc
  clear hscb hub huc ox oy oz hxb hyb hzb
  go_wp2_with fail
  refine (sc_end hscc hpe (by rw [Hse.out]; omega) (by rw [Hse.out]; omega)).mono ?_
  rintro e wd ⟨rfl, hud⟩
  rw [Hen.out]
  have hud := hucc.trans hud
  clear hscc hucc
  have hfl := fault_code A c n l wd (h.up hud) Hf.out.symm
  generalize U.fault l = f at *
  go_wp2_with fail
  refine hfl.mono ?_
  rintro e we ⟨rfl, hue⟩
  go_wp2_with fail
  refine (awake_2 _).mono ?_
  rintro e wf ⟨rfl, huf⟩
  go_wp2_with fail
  go_ret
  exact ⟨rfl, (hud.trans hue).trans huf⟩

theorem scuts_walk (w : World) (A : Option Addr) (n c : Nat) (l : List UInt8) (hn : l.length = n) (h : Rd w A c (bs l)) (_hb : c * 1 ≤ 140737488351232) (hu : c ≤ 1048576) (a : Int) (ha : 0 ≤ a ∧ a < 65536) :
    Calls Try.prog 6 #[.slice A n c, .int .u16 a] w fun e w' => e = .returned (.bool true) ∧ Up w w' := by
  have hf := h.fit
  rw [bs_len] at hf
  exact scuts_at w A n c l (Lib.hid hn) h (by omega) a ha.1 ha.2

end Go.Proofs.Ytdkegfookbgicaa
