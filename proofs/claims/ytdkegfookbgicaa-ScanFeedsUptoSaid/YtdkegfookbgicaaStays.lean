/- ScanStays: a fault stays; of no scan. Written by program (wip/tools/stays.py). -/
import Derived.Test.YtdkegfookbgicaaAwk
import Derived.Test.YtdkegfookbgicaaScm
namespace Go.Proofs.Ytdkegfookbgicaa
open Go.RowKit

/-- What lay there is none of what was made. -/
theorem Rd.apart {w : World} {A : Option Addr} {c : Nat} {xs : List Value} (h : Rd w A c xs) {g k : Nat} (hg : w.heap.size ≤ g) (hk : w.heap.size ≤ k) : 0 < c → ∀ a, A = some a → a.block ≠ g ∧ a.block ≠ k := fun hc a ha => by
  obtain ⟨a', ha', hlt⟩ := h.ad hc
  rw [ha] at ha'
  injection ha' with e
  subst e
  omega

set_option maxRecDepth 100000 in
set_option maxHeartbeats 1600000 in
theorem stays_1 (w : World) (A : Option Addr) (n c : Nat) (l : List UInt8) (Hf : Hid (l.length = n)) (h : Rd w A c (bs l)) (hn2 : n ≤ 1048576)
    (B : Option Addr) (m d : Nat) (k : List UInt8) (Hm : Hid (k.length = m)) (hk : Rd w B d (bs k)) (hm2 : m ≤ 1048576) (f : Int) (Hb : Hid ((U.St.of l).bad = f)) (h0 : 0 ≤ f) (hf1 : f ≤ 1048576) (hf2 : -1 ≤ f) :
    Calls Try.prog 7 #[.slice A n c, .slice B m d] w fun e w' => e = .returned (.bool true) ∧ Up w w' := by
  go_enter Try.func7, Try.ntmps7
  go_wp2_with fail
  refine (new_code w).mono ?_
  rintro e w1 ⟨g, rfl, hsc1, hu1, hg1⟩
  have hfe := feed_ok hsc1 (by decide) (by decide) A c n l (h.up hu1) Hf.out.symm (by show (0 : Int) + n ≤ _; omega) (h.apart hg1 hg1)
  rw [U.St.new_go] at hfe
  go_wp2_with fail
  refine hfe.mono ?_
  rintro e w2 ⟨rfl, k2, hsc2, hk2, hfr2⟩
  clear hfe
  have hs1 := hu1.size
  have hu2 : Up w w2 := hu1.fr hfr2 hg1 hg1
  have hk2' : w.heap.size ≤ k2 := by omega
  clear hfr2 hsc1 hk2
  go_wp2_with fail
  refine (sc_fault hsc2).mono ?_
  rintro e w3 ⟨rfl, hu3⟩
  have hsc3 := hsc2.up hu3
  have hu4 := hu2.trans hu3
  rw [Hb.out]
  clear hsc2 hu2 hu3 hu1
  have hse : (U.St.of l).seen = n := by rw [U.St.of_seen, Hf.out]
  have hfe := feed_ok hsc3 (U.St.of_pend l) (by omega) B d m k (hk.up hu4) Hm.out.symm (by omega) (hk.apart hg1 hk2')
  clear hse
  go_wp2_with fail
  refine hfe.mono ?_
  rintro e w5 ⟨rfl, k5, hsc5, hk5, hfr5⟩
  clear hfe
  have hs4 := hu4.size
  have hu5 : Up w w5 := hu4.fr hfr5 hg1 hk2'
  clear hfr5 hsc3 hk5 hu4 hk2' hs1 hs4
  have hb5 := U.St.go_bad (s := U.St.of l) (by rw [Hb.out]; exact h0) k
  have hpe := U.St.of_fault (l := l) (by rw [Hb.out]; exact h0)
  rw [Hb.out] at hb5
  rw [hpe.2] at hb5
  have hend : ((U.St.of l).go k).end = f := by unfold U.St.end; rw [if_pos hb5.2, hb5.1]
  have hse : ((U.St.of l).go k).seen = (n + m : Nat) := by rw [U.St.go_seen, U.St.of_seen, Hf.out, Hm.out]; omega
  obtain ⟨s5, hs5⟩ : ∃ s5, (U.St.of l).go k = s5 := ⟨_, rfl⟩
  rw [hs5] at hsc5 hb5 hend hse
  have Hfa := Lib.hid (hpe.1.symm.trans Hb.out)
  have HB := Lib.hid hb5.1
  have HP := Lib.hid hb5.2
  have HE := Lib.hid hend
  clear hb5 hpe hend hs5
  go_wp2_with fail
  refine (sc_fault hsc5).mono ?_
  rintro e w6 ⟨rfl, hu6⟩
  rw [HB.out]
  go_wp2_with fail
  refine (sc_end (hsc5.up hu6) (by rw [HP.out]; decide) (by omega) (by omega)).mono ?_
  rintro e w7 ⟨rfl, hu7⟩
  rw [HE.out]
  go_wp2_with fail
  refine (sc_state ((hsc5.up hu6).up hu7) (by rw [HP.out]; decide)).mono ?_
  rintro e w8 ⟨A8, c8, rfl, _, _, hu8⟩
  have hu8 := ((hu5.trans hu6).trans hu7).trans hu8
  rw [HP.out]
  have hfd := fun (w' : World) => field_2 (.int .i64 s5.seen) (.int .i64 s5.bad) (.slice A8 0 c8) w'
  clear hse hsc5 hu5 hu6 hu7
  go_wp2_with fail
  refine (sc_nil_state w8).mono ?_
  rintro e w9 ⟨rfl, hu9⟩
  have ho := heap_alloc_new w9 (.cells #[.int .i64 0, .int .i64 (-1), .slice none 0 0] 36)
  go_wp2_with fail
  refine (sc_nil_feed _ _).mono ?_
  rintro e wa ⟨rfl, hua⟩
  go_wp2_with fail
  refine (sc_nil_fault _).mono ?_
  rintro e wb ⟨rfl, hub⟩
  go_wp2_with fail
  refine (sc_nil_end _).mono ?_
  rintro e wc ⟨rfl, huc⟩
  have hoc := obj_up ho ((hua.trans hub).trans huc)
  have d0 := obj_cell hoc 0
  have d1 := obj_cell hoc 1
  have d2 := obj_cell hoc 2
  simp only [List.getElem?_toArray, List.getElem?_cons_zero, List.getElem?_cons_succ] at d0 d1 d2
  have huw : Up w wc := (((hu8.trans hu9).alloc (.cells #[.int .i64 0, .int .i64 (-1), .slice none 0 0] 36)).trans ((hua.trans hub).trans huc))
  clear ho hoc hua hub huc hu8 hu9
  go_wp2_with fail
  refine (fault_code A c n l _ (h.up huw) Hf.out.symm).mono ?_
  rintro e wd ⟨rfl, hud⟩
  have hud := huw.trans hud
  rw [Hfa.out]
  clear huw
  go_wp2_with fail
  refine (awake_2 _).mono ?_
  rintro e we ⟨rfl, hue⟩
  go_wp2_with fail
  go_ret
  exact ⟨rfl, hud.trans hue⟩

set_option maxRecDepth 100000 in
set_option maxHeartbeats 1600000 in
theorem stays_2 (w : World) (A : Option Addr) (n c : Nat) (l : List UInt8) (Hf : Hid (l.length = n)) (h : Rd w A c (bs l)) (hn2 : n ≤ 1048576)
    (B : Option Addr) (m d : Nat) (k : List UInt8) (Hm : Hid (k.length = m)) (hk : Rd w B d (bs k)) (hm2 : m ≤ 1048576) (f : Int) (Hb : Hid ((U.St.of l).bad = f)) (h0 : f < 0) (hf1 : f ≤ 1048576) (hf2 : -1 ≤ f) :
    Calls Try.prog 7 #[.slice A n c, .slice B m d] w fun e w' => e = .returned (.bool true) ∧ Up w w' := by
  go_enter Try.func7, Try.ntmps7
  go_wp2_with fail
  refine (new_code w).mono ?_
  rintro e w1 ⟨g, rfl, hsc1, hu1, hg1⟩
  have hfe := feed_ok hsc1 (by decide) (by decide) A c n l (h.up hu1) Hf.out.symm (by show (0 : Int) + n ≤ _; omega) (h.apart hg1 hg1)
  rw [U.St.new_go] at hfe
  go_wp2_with fail
  refine hfe.mono ?_
  rintro e w2 ⟨rfl, k2, hsc2, hk2, hfr2⟩
  clear hfe
  have hs1 := hu1.size
  have hu2 : Up w w2 := hu1.fr hfr2 hg1 hg1
  have hk2' : w.heap.size ≤ k2 := by omega
  clear hfr2 hsc1 hk2
  go_wp2_with fail
  refine (sc_fault hsc2).mono ?_
  rintro e w3 ⟨rfl, hu3⟩
  have hsc3 := hsc2.up hu3
  have hu4 := hu2.trans hu3
  rw [Hb.out]
  clear hsc2 hu2 hu3 hu1
  have hse : (U.St.of l).seen = n := by rw [U.St.of_seen, Hf.out]
  have hfe := feed_ok hsc3 (U.St.of_pend l) (by omega) B d m k (hk.up hu4) Hm.out.symm (by omega) (hk.apart hg1 hk2')
  clear hse
  go_wp2_with fail
  refine hfe.mono ?_
  rintro e w5 ⟨rfl, k5, hsc5, hk5, hfr5⟩
  clear hfe
  have hs4 := hu4.size
  have hu5 : Up w w5 := hu4.fr hfr5 hg1 hk2'
  clear hfr5 hsc3 hk5 hu4 hk2' hs1 hs4
  have hu8 := hu5
  clear hsc5 hu5
  generalize w5 = w8 at *
  go_wp2_with fail
  refine (sc_nil_state w8).mono ?_
  rintro e w9 ⟨rfl, hu9⟩
  have ho := heap_alloc_new w9 (.cells #[.int .i64 0, .int .i64 (-1), .slice none 0 0] 36)
  go_wp2_with fail
  refine (sc_nil_feed _ _).mono ?_
  rintro e wa ⟨rfl, hua⟩
  go_wp2_with fail
  refine (sc_nil_fault _).mono ?_
  rintro e wb ⟨rfl, hub⟩
  go_wp2_with fail
  refine (sc_nil_end _).mono ?_
  rintro e wc ⟨rfl, huc⟩
  have hoc := obj_up ho ((hua.trans hub).trans huc)
  have d0 := obj_cell hoc 0
  have d1 := obj_cell hoc 1
  have d2 := obj_cell hoc 2
  simp only [List.getElem?_toArray, List.getElem?_cons_zero, List.getElem?_cons_succ] at d0 d1 d2
  have huw : Up w wc := (((hu8.trans hu9).alloc (.cells #[.int .i64 0, .int .i64 (-1), .slice none 0 0] 36)).trans ((hua.trans hub).trans huc))
  clear ho hoc hua hub huc hu8 hu9
  go_wp2_with fail
  have hud := huw
  clear huw
  refine (awake_2 _).mono ?_
  rintro e we ⟨rfl, hue⟩
  go_wp2_with fail
  go_ret
  exact ⟨rfl, hud.trans hue⟩

theorem stays_walk (w : World) (A : Option Addr) (n c : Nat) (l : List UInt8) (hn : l.length = n) (h : Rd w A c (bs l)) (_hb : c * 1 ≤ 140737488351232) (hu : c ≤ 1048576)
    (B : Option Addr) (m d : Nat) (k : List UInt8) (hm : k.length = m) (hk : Rd w B d (bs k)) (_hb2 : d * 1 ≤ 140737488351232) (hu2 : d ≤ 1048576) :
    Calls Try.prog 7 #[.slice A n c, .slice B m d] w fun e w' => e = .returned (.bool true) ∧ Up w w' := by
  have hf := h.fit
  rw [bs_len] at hf
  have hf2 := hk.fit
  rw [bs_len] at hf2
  have hb := U.St.of_bad_lt l
  by_cases h0 : 0 ≤ (U.St.of l).bad
  · exact stays_1 w A n c l (Lib.hid hn) h (by omega) B m d k (Lib.hid hm) hk (by omega) _ (Lib.hid rfl) h0 (by omega) (by omega)
  · exact stays_2 w A n c l (Lib.hid hn) h (by omega) B m d k (Lib.hid hm) hk (by omega) _ (Lib.hid rfl) (by omega) (by omega) (by omega)

end Go.Proofs.Ytdkegfookbgicaa
