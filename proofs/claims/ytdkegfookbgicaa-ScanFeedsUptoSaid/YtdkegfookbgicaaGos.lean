/- ScanGoes: from any state. Written by program (wip/tools/goes2.py). -/
import Derived.Test.YtdkegfookbgicaaSm
import Derived.Test.YtdkegfookbgicaaStays
namespace Go.Proofs.Ytdkegfookbgicaa
open Go.RowKit

set_option maxRecDepth 100000 in
set_option maxHeartbeats 800000 in
theorem goes_none (s : U.St) (w : World) (A : Option Addr) (c : Nat) (h : Rd w A c (bs s.pend)) (hok : ¬ s.ok) (v : Value) :
    Calls Try.prog 5 #[agg s A c, v] w fun e w' => e = .returned (.bool true) ∧ Up w w' := by
  have hfr := fun (w' : World) (hu : Up w w') => from_bad s A s.pend.length c w' (h.up hu) rfl hok
  have hmy := fun (w' : World) (hu : Up w w') => may_no s A c w' (h.up hu) hok
  unfold agg at *
  obtain ⟨seen, bad, pend⟩ := s
  simp only at *
  generalize pend.length = n at *
  have hu0 := (Up.refl w).alloc (.cells #[.int .i64 seen, .int .i64 bad, .slice A n c] 36)
  have ho0 := heap_alloc_new w (.cells #[.int .i64 seen, .int .i64 bad, .slice A n c] 36)
  clear h hok
  go_enter Try.func5, Try.ntmps5
  go_wp2_with fail
  refine (hfr _ hu0).mono ?_
  rintro e w1 ⟨rfl, hu1⟩
  have ho1 := obj_up ho0 hu1
  have huw := hu0.trans hu1
  have c0 := obj_cell ho1 0
  have c1 := obj_cell ho1 1
  have c2 := obj_cell ho1 2
  simp only [List.getElem?_toArray, List.getElem?_cons_zero, List.getElem?_cons_succ] at c0 c1 c2
  clear hfr ho0 ho1 hu0 hu1
  go_wp2_with fail
  refine (hmy _ huw).mono ?_
  rintro e w2 ⟨rfl, hu2⟩
  clear c0 c1 c2 hmy
  go_wp2_with fail
  refine (awake_2 _).mono ?_
  rintro e w3 ⟨rfl, hu3⟩
  go_wp2_with fail
  go_ret
  exact ⟨rfl, (huw.trans hu2).trans hu3⟩

set_option maxRecDepth 100000 in
set_option maxHeartbeats 1600000 in
theorem goes_range (s : U.St) (w : World) (A : Option Addr) (c : Nat) (h : Rd w A c (bs s.pend)) (hok : s.ok) (B : Option Addr) (m d : Nat) (l : List UInt8) (hm : Hid (l.length = m)) (hl : Rd w B d (bs l)) (hmm : m ≤ 9223372036854775807) (hsz : 1099511627776 < s.seen + m) :
    Calls Try.prog 5 #[agg s A c, .slice B m d] w fun e w' => e = .returned (.bool true) ∧ Up w w' := by
  have hf := h.fit
  rw [bs_len] at hf
  have hfr := fun (w' : World) (hu : Up w w') => from_ok s A s.pend.length c w' (h.up hu) rfl hok
  have hmy := fun (w' : World) (hu : Up w w') => may_yes s A c w' (h.up hu) hok
  have hsa := fun (w' : World) (g k : Nat) (hu : Up w w') (hsc : Sc w' g k s) => same_law hsc hok A c (h.up hu)
  have hnx := fun (w' : World) => next_range s A c w' hok hf B m d hmm hsz
  simp only [agg] at hmy hsa hnx ⊢
  have hu0 := (Up.refl w).alloc (.cells #[.int .i64 s.seen, .int .i64 s.bad, .slice A s.pend.length c] 36)
  have ho0 := heap_alloc_new w (.cells #[.int .i64 s.seen, .int .i64 s.bad, .slice A s.pend.length c] 36)
  have HFR := Lib.hid hfr
  have HMY := Lib.hid hmy
  have HSA := Lib.hid hsa
  have HNX := Lib.hid hnx
  clear hfr hmy hsa hnx
  go_enter Try.func5, Try.ntmps5
  go_wp2_with fail
  refine (HFR.out _ hu0).mono ?_
  rintro e w1 ⟨g, k, rfl, hsc1, hg, hk, hu1⟩
  have ho1 := obj_up ho0 hu1
  have huw := hu0.trans hu1
  have hz0 := hu0.size
  have c0 := obj_cell ho1 0
  have c1 := obj_cell ho1 1
  have c2 := obj_cell ho1 2
  simp only [List.getElem?_toArray, List.getElem?_cons_zero, List.getElem?_cons_succ] at c0 c1 c2
  clear HFR ho0 hu0 hu1
  go_wp2_with fail
  refine (HMY.out _ huw).mono ?_
  rintro e w2 ⟨rfl, hu2⟩
  have ho2 := obj_up ho1 hu2
  have hsc2 := hsc1.up hu2
  have huw2 := huw.trans hu2
  clear c0 c1 c2 HMY ho1 hsc1 huw
  have c0 := obj_cell ho2 0
  have c1 := obj_cell ho2 1
  have c2 := obj_cell ho2 2
  simp only [List.getElem?_toArray, List.getElem?_cons_zero, List.getElem?_cons_succ] at c0 c1 c2
  go_wp2_with fail
  refine (HSA.out _ _ _ huw2 hsc2).mono ?_
  rintro e w3 ⟨rfl, hu3⟩
  have ho3 := obj_up ho2 hu3
  have hsc3 := hsc2.up hu3
  have huw3 := huw2.trans hu3
  clear c0 c1 c2 ho2 hsc2 huw2
  have c0 := obj_cell ho3 0
  have c1 := obj_cell ho3 1
  have c2 := obj_cell ho3 2
  simp only [List.getElem?_toArray, List.getElem?_cons_zero, List.getElem?_cons_succ] at c0 c1 c2
  clear ho3
  go_wp2_with fail
  refine (HNX.out _).mono ?_
  rintro e w4 ⟨rfl, hu4⟩
  clear c0 c1 c2
  have oy := heap_alloc_new w4 (.cells #[.int .i64 s.seen, .int .i64 s.bad, .slice A s.pend.length c] 29)
  have huy := (Up.refl w4).alloc (.cells #[.int .i64 s.seen, .int .i64 s.bad, .slice A s.pend.length c] 29)
  have hsc4 := (hsc3.up hu4).up huy
  have huw4 := (huw3.trans hu4).trans huy
  go_wp2_with fail
  refine (feed_range hsc4 hok.seen0 hok.seen1 B d m hmm hsz).mono ?_
  rintro e w5 ⟨rfl, hu5⟩
  have oy5 := obj_up oy hu5
  have c0 := obj_cell oy5 0
  have c1 := obj_cell oy5 1
  have c2 := obj_cell oy5 2
  simp only [List.getElem?_toArray, List.getElem?_cons_zero, List.getElem?_cons_succ] at c0 c1 c2
  clear oy oy5
  go_wp2_with fail
  refine (HSA.out _ _ _ (huw4.trans hu5) (hsc4.up hu5)).mono ?_
  rintro e w6 ⟨rfl, hu6⟩
  clear c0 c1 c2
  go_wp2_with fail
  refine (awake_2 _).mono ?_
  rintro e w7 ⟨rfl, hu7⟩
  go_wp2_with fail
  go_ret
  exact ⟨rfl, ((huw4.trans hu5).trans hu6).trans hu7⟩

set_option maxRecDepth 100000 in
set_option maxHeartbeats 1600000 in
theorem goes_on (s : U.St) (w : World) (A : Option Addr) (c : Nat) (h : Rd w A c (bs s.pend)) (hok : s.ok) (B : Option Addr) (m d : Nat) (l : List UInt8) (hm : Hid (l.length = m)) (hl : Rd w B d (bs l)) (hmm : m ≤ 9223372036854775807) (hsz : s.seen + m ≤ 1099511627776) :
    Calls Try.prog 5 #[agg s A c, .slice B m d] w fun e w' => e = .returned (.bool true) ∧ Up w w' := by
  have hf := h.fit
  rw [bs_len] at hf
  have hfr := fun (w' : World) (hu : Up w w') => from_ok s A s.pend.length c w' (h.up hu) rfl hok
  have hmy := fun (w' : World) (hu : Up w w') => may_yes s A c w' (h.up hu) hok
  have hsa := fun (w' : World) (g k : Nat) (hu : Up w w') (hsc : Sc w' g k s) => same_law hsc hok A c (h.up hu)
  have hnx := fun (w' : World) (hu : Up w w') => next_ref s A c w' (h.up hu) hok B m d l (hl.up hu) hm.out.symm hsz
  simp only [agg] at hmy hsa hnx ⊢
  have hu0 := (Up.refl w).alloc (.cells #[.int .i64 s.seen, .int .i64 s.bad, .slice A s.pend.length c] 36)
  have ho0 := heap_alloc_new w (.cells #[.int .i64 s.seen, .int .i64 s.bad, .slice A s.pend.length c] 36)
  have HFR := Lib.hid hfr
  have HMY := Lib.hid hmy
  have HSA := Lib.hid hsa
  have HNX := Lib.hid hnx
  clear hfr hmy hsa hnx
  go_enter Try.func5, Try.ntmps5
  go_wp2_with fail
  refine (HFR.out _ hu0).mono ?_
  rintro e w1 ⟨g, k, rfl, hsc1, hg, hk, hu1⟩
  have ho1 := obj_up ho0 hu1
  have huw := hu0.trans hu1
  have hz0 := hu0.size
  have c0 := obj_cell ho1 0
  have c1 := obj_cell ho1 1
  have c2 := obj_cell ho1 2
  simp only [List.getElem?_toArray, List.getElem?_cons_zero, List.getElem?_cons_succ] at c0 c1 c2
  clear HFR ho0 hu0 hu1
  go_wp2_with fail
  refine (HMY.out _ huw).mono ?_
  rintro e w2 ⟨rfl, hu2⟩
  have ho2 := obj_up ho1 hu2
  have hsc2 := hsc1.up hu2
  have huw2 := huw.trans hu2
  clear c0 c1 c2 HMY ho1 hsc1 huw
  have c0 := obj_cell ho2 0
  have c1 := obj_cell ho2 1
  have c2 := obj_cell ho2 2
  simp only [List.getElem?_toArray, List.getElem?_cons_zero, List.getElem?_cons_succ] at c0 c1 c2
  go_wp2_with fail
  refine (HSA.out _ _ _ huw2 hsc2).mono ?_
  rintro e w3 ⟨rfl, hu3⟩
  have ho3 := obj_up ho2 hu3
  have hsc3 := hsc2.up hu3
  have huw3 := huw2.trans hu3
  clear c0 c1 c2 ho2 hsc2 huw2
  have c0 := obj_cell ho3 0
  have c1 := obj_cell ho3 1
  have c2 := obj_cell ho3 2
  simp only [List.getElem?_toArray, List.getElem?_cons_zero, List.getElem?_cons_succ] at c0 c1 c2
  clear ho3
  go_wp2_with fail
  refine (HNX.out _ huw3).mono ?_
  rintro e w4 ⟨A4, d4, rfl, hr4, hA4, hu4⟩
  clear c0 c1 c2
  have oy := heap_alloc_new w4 (.cells #[.int .i64 (s.go l).seen, .int .i64 (s.go l).bad, .slice A4 (s.go l).pend.length d4] 29)
  have huy := (Up.refl w4).alloc (.cells #[.int .i64 (s.go l).seen, .int .i64 (s.go l).bad, .slice A4 (s.go l).pend.length d4] 29)
  have hsc4 := (hsc3.up hu4).up huy
  have hg3 := hsc3.lt
  have hk3 := hsc3.klt
  have hz4 := hu4.size
  have huw4 := (huw3.trans hu4).trans huy
  have hr5 := hr4.up huy
  have hgo := U.St.go_ok hok l (by rw [hm.out]; exact hsz)
  have hfe := feed_ok hsc4 (U.St.ok_pend hok) hok.seen0 B d m l (hl.up huw4) hm.out.symm hsz (hl.apart (by omega) (by omega))
  obtain ⟨t, ht⟩ : ∃ t, s.go l = t := ⟨_, rfl⟩
  rw [ht] at oy huy hfe hgo hr5 hsc4 huw4 ⊢
  go_wp2_with fail
  refine hfe.mono ?_
  rintro e w5 ⟨rfl, k5, hsc5, hk5, hfr⟩
  have hrT : Rd w5 A4 d4 (bs t.pend) := hr5.fr hfr (fun _ a ha => by have := hA4 a ha; omega)
  have hu5 := huw4.fr hfr (by omega) (by omega)
  have oy5 := obj_fr oy hfr (by omega) (by omega)
  have c0 := obj_cell oy5 0
  have c1 := obj_cell oy5 1
  have c2 := obj_cell oy5 2
  simp only [List.getElem?_toArray, List.getElem?_cons_zero, List.getElem?_cons_succ] at c0 c1 c2
  have hsl := same_law hsc5 hgo A4 d4 hrT
  simp only [agg] at hsl
  clear oy oy5 hfe hr4 hr5
  go_wp2_with fail
  refine hsl.mono ?_
  rintro e w6 ⟨rfl, hu6⟩
  clear c0 c1 c2 hsl
  go_wp2_with fail
  refine (awake_2 _).mono ?_
  rintro e w7 ⟨rfl, hu7⟩
  go_wp2_with fail
  go_ret
  exact ⟨rfl, (hu5.trans hu6).trans hu7⟩


theorem goes_walk (s : U.St) (w : World) (A : Option Addr) (c : Nat) (h : Rd w A c (bs s.pend)) (B : Option Addr) (m d : Nat) (l : List UInt8) (hm : l.length = m) (hl : Rd w B d (bs l)) (_hb : d * 1 ≤ 140737488351232) :
    Calls Try.prog 5 #[agg s A c, .slice B m d] w fun e w' => e = .returned (.bool true) ∧ Up w w' := by
  have hf := hl.fit
  have hmx := hl.max
  rw [bs_len] at hf
  unfold maxLen at hmx
  by_cases hok : s.ok
  · by_cases hsz : s.seen + m ≤ 1099511627776
    · exact goes_on s w A c h hok B m d l (Lib.hid hm) hl (by omega) hsz
    · exact goes_range s w A c h hok B m d l (Lib.hid hm) hl (by omega) (by omega)
  · exact goes_none s w A c h hok _

end Go.Proofs.Ytdkegfookbgicaa
