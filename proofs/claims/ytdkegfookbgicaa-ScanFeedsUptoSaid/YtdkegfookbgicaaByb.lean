/- ScanBytes: byte by byte, and at once. Written by program (wip/tools/bytes2.py). -/
import Derived.Test.YtdkegfookbgicaaStays
namespace Go.Proofs.Ytdkegfookbgicaa
open Go.RowKit

theorem drop_one {l : List UInt8} {p : Nat} (h : p < l.length) : (l.drop p).take (p + 1 - p) = [l[p]] := by
  rw [List.drop_eq_getElem_cons h, show p + 1 - p = 1 by omega]; rfl
theorem of_next {l : List UInt8} {p : Nat} (h : p < l.length) : (U.St.of (l.take p)).go [l[p]] = U.St.of (l.take (p + 1)) := by
  rw [U.St.of_go, ← List.take_succ_eq_append_getElem h]

/-- 'b[i:k]' of bytes. -/
theorem Rd.mid {w : World} {A : Option Addr} {c : Nat} {l : List UInt8} (h : Rd w A c (bs l)) (n p q : Nat) (hn : n = l.length) (hp : p ≤ q) (hq : q ≤ n) :
    ∃ A', (∀ w', (Instr.slice 22 (.slice A n c) (some (.int .i64 p)) (some (.int .i64 q)) none).run Try.prog w' = .ok (.slice A' (q - p) (c - p)) w') ∧ Rd w A' (c - p) (bs ((l.drop p).take (q - p))) := by
  have hf := h.fit
  rw [bs_len] at hf
  refine ⟨if c = p then A else A.map (·.add (p * 1)), fun w' => ?_, ?_⟩
  · rw [run_slice_lh w' 22 A n c uBe .i64 .i64 p q (by omega) (by omega) (by omega), szB]
    simp [sliced]
  · have := h.sub (lo := p) (hi := q) (m := c) hp (by rw [bs_len]; omega) (by omega) (by omega)
    rw [bs_drop, bs_take] at this
    simpa using this

theorem byb_long (w : World) (A : Option Addr) (n c : Nat) (hn : 2000 < n) (hn2 : n ≤ 9223372036854775807) :
    Calls Try.prog 8 #[.slice A n c] w fun e w' => e = .returned (.bool true) ∧ Up w w' := by
  go_enter Try.func8, Try.ntmps8
  go_wp2_with fail
  refine (awake_2 _).mono ?_
  rintro e w1 ⟨rfl, hu⟩
  go_wp2_with fail
  go_ret
  exact ⟨rfl, hu⟩

set_option maxRecDepth 100000 in
set_option maxHeartbeats 1600000 in
theorem byb_short (w : World) (A : Option Addr) (n c : Nat) (l : List UInt8) (Hf : Hid (l.length = n)) (h : Rd w A c (bs l)) (hn2 : n ≤ 2000) :
    Calls Try.prog 8 #[.slice A n c] w fun e w' => e = .returned (.bool true) ∧ Up w w' := by
  go_enter Try.func8, Try.ntmps8
  go_wp2_with fail
  refine (new_code w).mono ?_
  rintro e w1 ⟨g, rfl, hsc1, hu1, hg1⟩
  have hgl := hsc1.lt
  go_wp2_with fail
  refine (new_code w1).mono ?_
  rintro e w2 ⟨q, rfl, hsq, hu2, hq1⟩
  have hsc2 := hsc1.up hu2
  have hs1 := hu1.size
  have hgq : g < q := by omega
  have hu3 := hu1.trans hu2
  clear hsc1 hu1 hu2 hgl
  go_wp2_with fail
  go_loopw [5] (fun i wr => ∃ p : Nat, p ≤ n ∧ i = .int .i64 p ∧ ∃ k, Sc wr g k (U.St.of (l.take p)) ∧ Sc wr q q U.St.new ∧ w.heap.size ≤ k ∧ k ≠ q ∧ Up w wr) (fun i _ => n - (intOf i).toNat)
  case atStart => exact ⟨0, by omega, rfl, g, hsc2, hsq, hg1, by omega, hu3⟩
  case round =>
    obtain ⟨p, hpn, rfl, k, hsc, hsr, hk, hkq, hu⟩ := hrel
    clear hsc2 hsq hu3
    by_cases hlt : p < n
    · have hpl : p < l.length := by have := Hf.out; omega
      obtain ⟨A', hsl, hrd⟩ := h.mid n p (p + 1) Hf.out.symm (by omega) (by omega)
      rw [drop_one hpl] at hrd
      have hfe := feed_ok hsc (U.St.of_pend _) (by rw [U.St.of_seen]; omega) A' (c - p) 1 [l[p]] (hrd.up hu) rfl (by rw [U.St.of_seen, List.length_take]; omega) (hrd.apart hg1 hk)
      rw [of_next hpl] at hfe
      have hse : (U.St.of (l.take (p + 1))).seen = (p : Int) + 1 := by rw [U.St.of_seen, List.length_take]; omega
      have hpe : (U.St.of (l.take (p + 1))).pend.length ≤ 3 := U.St.of_pend _
      obtain ⟨s5, hs5⟩ : ∃ s5, U.St.of (l.take (p + 1)) = s5 := ⟨_, rfl⟩
      rw [hs5] at hfe hse hpe
      have Hs5 := Lib.hid hs5
      have Hse := Lib.hid hse
      have hsl1 : ∀ w', (Instr.slice 22 (.slice A n c) (some (.int .i64 p)) (some (.int .i64 ((p : Int) + 1))) none).run Try.prog w' = .ok (.slice A' 1 (c - p)) w' := fun w' => by
        have := hsl w'
        rw [show p + 1 - p = 1 by omega] at this
        exact_mod_cast this
      clear hrd hpl hsl hs5 hse
      go_wp2_with fail
      refine hfe.mono ?_
      rintro e w5 ⟨rfl, k5, hsc5, hk5, hfr5⟩
      clear hfe hsl1
      have hsq5 := hsr.fr hfr5 (by omega) (by omega) (by omega) (by omega)
      have hql := hsr.lt
      have hs5 := hu.size
      have hu5 := hu.fr hfr5 hg1 hk
      have hk5q : w.heap.size ≤ k5 ∧ k5 ≠ q := by omega
      clear hfr5 hsr hsc hu hk5 hql hs5
      go_wp2_with fail
      refine (sc_state hsc5 hpe).mono ?_
      rintro e w6 ⟨A6, c6, rfl, _, _, hu6⟩
      have hf6 := fun (w' : World) => field_2 (.int .i64 s5.seen) (.int .i64 s5.bad) (.slice A6 s5.pend.length c6) w'
      go_wp2_with fail
      refine (sc_state (hsc5.up hu6) hpe).mono ?_
      rintro e w7 ⟨A7, c7, rfl, _, _, hu7⟩
      have hf7 := fun (w' : World) => field_0 (.int .i64 s5.seen) (.int .i64 s5.bad) (.slice A7 s5.pend.length c7) w'
      rw [Hse.out] at hf7 ⊢
      clear hf6
      have hu67 := hu6.trans hu7
      clear hu6 hu7
      go_wp2_with fail
      go_roundw
      case rel => exact ⟨p + 1, by omega, by go_num, k5, by rw [Hs5.out]; exact hsc5.up hu67, hsq5.up hu67, hk5q.1, hk5q.2, hu5.trans hu67⟩
      case measure => simp [intOf]; omega
    · have hpn2 : p = n := by omega
      subst hpn2
      have htk : l.take p = l := List.take_of_length_le (by rw [Hf.out]; exact Nat.le_refl _)
      rw [htk] at hsc
      clear htk hlt hpn
      have hfe := feed_ok hsr (by decide) (by decide) A c p l (h.up hu) Hf.out.symm (by show (0 : Int) + p ≤ _; omega) (h.apart (by omega) (by omega))
      rw [U.St.new_go] at hfe
      go_wp2_with fail
      refine hfe.mono ?_
      rintro e w5 ⟨rfl, k5, hsq5, hk5, hfr5⟩
      clear hfe
      have hsc5 := hsc.fr hfr5 (by omega) (by omega) (by omega) (by omega)
      have hu5 := hu.fr hfr5 (by omega) (by omega)
      have hpe : (U.St.of l).pend.length ≤ 3 := U.St.of_pend _
      have hse : (U.St.of l).seen = p := by rw [U.St.of_seen, Hf.out]
      have hen : (U.St.of l).end = U.fault l := U.St.of_end l
      clear hfr5 hsr hsc hu hk5
      obtain ⟨s5, hs5⟩ : ∃ s5, U.St.of l = s5 := ⟨_, rfl⟩
      rw [hs5] at hsc5 hsq5 hpe hse hen
      have Hse := Lib.hid hse
      have Hen := Lib.hid hen
      clear hs5 hse hen
      go_wp2_with fail
      refine (sc_state hsc5 hpe).mono ?_
      rintro e w6 ⟨A6, c6, rfl, hr6, _, hu6⟩
      go_wp2_with fail
      refine (sc_state (hsq5.up hu6) hpe).mono ?_
      rintro e w7 ⟨A7, c7, rfl, hr7, _, hu7⟩
      have hr67 := hr6.up hu7
      have hu67 := hu6.trans hu7
      clear hu6 hu7 hr6 hsq5
      obtain ⟨w8, hw8⟩ : ∃ w8, (w7.alloc (.cells #[.int .i64 s5.seen, .int .i64 s5.bad, .slice A6 s5.pend.length c6] 36)).alloc (.cells #[.int .i64 s5.seen, .int .i64 s5.bad, .slice A7 s5.pend.length c7] 36) = w8 := ⟨_, rfl⟩
      have hu8 : Up w7 w8 := by rw [← hw8]; exact ((Up.refl w7).alloc _).alloc _
      have o6 : w8.heap[w7.heap.size]? = some (.cells #[.int .i64 s5.seen, .int .i64 s5.bad, .slice A6 s5.pend.length c6] 36 (0, 0)) := by rw [← hw8]; exact heap_alloc2_old w7 _ _
      have o7 : w8.heap[w7.heap.size + 1]? = some (.cells #[.int .i64 s5.seen, .int .i64 s5.bad, .slice A7 s5.pend.length c7] 36 (0, 0)) := by rw [← hw8]; exact heap_alloc2_new w7 _ _
      have d61 := obj_cell o6 1
      have d62 := obj_cell o6 2
      have d71 := obj_cell o7 1
      have d72 := obj_cell o7 2
      simp only [List.getElem?_toArray, List.getElem?_cons_zero, List.getElem?_cons_succ] at d61 d62 d71 d72
      have hc6 := (hr67.up hu8).str (n := s5.pend.length) rfl
      have hc7 := (hr7.up hu8).str (n := s5.pend.length) rfl
      have hsc8 := hsc5.up (hu67.trans hu8)
      have huw := (hu5.trans hu67).trans hu8
      clear hsc5 hu5 hu67 hu8 o6 o7 hr67 hr7
      go_wp2_with fail
      refine (sc_end hsc8 hpe (by rw [Hse.out]; omega) (by rw [Hse.out]; omega)).mono ?_
      rintro e w9 ⟨rfl, hu9⟩
      rw [Hen.out]
      have hu9 := huw.trans hu9
      clear hsc8 huw
      have hfl := fault_code A c p l w9 (h.up hu9) Hf.out.symm
      generalize U.fault l = f at *
      go_wp2_with fail
      refine hfl.mono ?_
      rintro e wd ⟨rfl, hud⟩
      go_wp2_with fail
      refine (awake_2 _).mono ?_
      rintro e we ⟨rfl, hue⟩
      go_wp2_with fail
      go_ret
      exact ⟨rfl, (hu9.trans hud).trans hue⟩

theorem byb_walk (w : World) (A : Option Addr) (n c : Nat) (l : List UInt8) (hn : l.length = n) (h : Rd w A c (bs l)) (hb : c * 1 ≤ 140737488351232) :
    Calls Try.prog 8 #[.slice A n c] w fun e w' => e = .returned (.bool true) ∧ Up w w' := by
  have hf := h.fit
  rw [bs_len] at hf
  by_cases hs : n ≤ 2000
  · exact byb_short w A n c l (Lib.hid hn) h hs
  · exact byb_long w A n c (by omega) (by omega)

end Go.Proofs.Ytdkegfookbgicaa
