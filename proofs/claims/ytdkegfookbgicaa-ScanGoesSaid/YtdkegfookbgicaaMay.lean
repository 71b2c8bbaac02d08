/- The document's Next whole, May, End, Same. -/
import Derived.Test.YtdkegfookbgicaaNext
namespace Go.Proofs.Ytdkegfookbgicaa
open Go.RowKit

theorem next_ref (s : U.St) (A : Option Addr) (c : Nat) (w : World) (hr : Rd w A c (bs s.pend)) (hok : s.ok) (B : Option Addr) (m d : Nat) (l : List UInt8) (hl : Rd w B d (bs l)) (hm : m = l.length) (hsz : s.seen + m ≤ 1099511627776) :
    Calls Try.prog 15 #[agg s A c, .slice B m d] w fun e w' => ∃ A' c', e = .returned (.tuple #[agg (s.go l) A' c', .int .i64 0]) ∧ Rd w' A' c' (bs (s.go l).pend) ∧ (∀ a, A' = some a → w.heap.size ≤ a.block) ∧ Up w w' := by
  have hf := hr.fit
  have hmx := hr.max
  rw [bs_len] at hf
  unfold maxLen at hmx
  have h3 := U.St.ok_pend hok
  by_cases hb : 0 ≤ s.bad
  · rw [U.St.go_bad' hok hb]
    unfold agg
    rw [← hm]
    exact next_bad s.seen s.bad s.pend s.pend.length (Lib.hid rfl) A c w hok.seen0 hok.seen1 h3 hr hf (by omega) B m d l hl (Lib.hid hm) hsz hb
  · have hns : (s.pend.length : Int) ≤ s.seen := by
      rcases hok.pend with hp | ⟨_, hp, _⟩
      · rw [hp]; have := hok.seen0; simpa using this
      · exact hp
    have hos : (U.St.of (s.pend ++ l)).seen = (s.pend.length : Int) + m := by rw [U.St.of_seen, List.length_append, hm]; omega
    have hob := U.St.of_bad_lt (s.pend ++ l)
    rw [List.length_append, ← hm] at hob
    rw [U.St.next_go hok (by omega)]
    unfold U.St.shift agg
    rw [hos, show (s.pend.length : Int) + m + (s.seen - s.pend.length) = s.seen + m by omega]
    by_cases ho : 0 ≤ (U.St.of (s.pend ++ l)).bad
    · rw [if_pos ho]
      exact next_fault s.seen s.bad s.pend s.pend.length (Lib.hid rfl) A c w hok.seen0 hok.seen1 h3 hr hf (by omega) B m d l hl (Lib.hid hm) hsz (by omega) (U.St.of (s.pend ++ l)) (Lib.hid rfl) (Lib.hid hos) ho (by omega) hns
    · rw [if_neg ho]
      exact next_right s.seen s.bad s.pend s.pend.length (Lib.hid rfl) A c w hok.seen0 hok.seen1 h3 hr hf (by omega) B m d l hl (Lib.hid hm) hsz (by omega) (U.St.of (s.pend ++ l)) (Lib.hid rfl) (Lib.hid hos) (by omega) (by omega) hns

set_option maxRecDepth 100000 in
theorem rend_ref (s : U.St) (A : Option Addr) (c : Nat) (w : World) (hok : s.ok) :
    Calls Try.prog 27 #[agg s A c] w fun e w' => e = .returned (.int .i64 s.end) ∧ Up w w' := by
  have h3 := U.St.ok_pend hok
  have h0 := hok.seen0
  have h1 := hok.seen1
  have h2 := hok.bad0
  have hp := hok.pend
  unfold U.St.end agg
  obtain ⟨seen, bad, pend⟩ := s
  simp only at *
  clear hok
  by_cases he : pend = []
  · subst he
    rw [if_pos rfl]
    clear hp
    go_enter Try.func27, Try.ntmps27
    go_wp2
    all_goals go_ret
    all_goals exact ⟨rfl, (Up.refl w).alloc _⟩
  · rw [if_neg he]
    have hl : 0 < pend.length := List.length_pos_iff.2 he
    have hb : bad = -1 := (hp.resolve_left he).2.2
    subst hb
    clear he hp
    generalize pend.length = n at *
    go_enter Try.func27, Try.ntmps27
    go_wp2
    go_ret
    exact ⟨rfl, (Up.refl w).alloc _⟩

set_option maxRecDepth 100000 in
theorem rsame_ref (s : U.St) (A : Option Addr) (c : Nat) (B : Option Addr) (d : Nat) (w : World) (hr : Rd w A c (bs s.pend)) (hr2 : Rd w B d (bs s.pend)) :
    Calls Try.prog 26 #[agg s A c, agg s B d] w fun e w' => e = .returned (.bool true) ∧ Up w w' := by
  unfold agg
  obtain ⟨seen, bad, pend⟩ := s
  simp only at *
  obtain ⟨w0, hw0⟩ : ∃ w0, (w.alloc (.cells #[.int .i64 seen, .int .i64 bad, .slice A pend.length c] 29)).alloc (.cells #[.int .i64 seen, .int .i64 bad, .slice B pend.length d] 29) = w0 := ⟨_, rfl⟩
  have hu0 : Up w w0 := by rw [← hw0]; exact ((Up.refl w).alloc _).alloc _
  have o2 : w0.heap[w.heap.size]? = some (.cells #[.int .i64 seen, .int .i64 bad, .slice A pend.length c] 29 (0, 0)) := by rw [← hw0]; exact heap_alloc2_old w _ _
  have o3 : w0.heap[w.heap.size + 1]? = some (.cells #[.int .i64 seen, .int .i64 bad, .slice B pend.length d] 29 (0, 0)) := by rw [← hw0]; exact heap_alloc2_new w _ _
  have b0 := obj_cell o2 0
  have b1 := obj_cell o2 1
  have b2 := obj_cell o2 2
  have c0 := obj_cell o3 0
  have c1 := obj_cell o3 1
  have c2 := obj_cell o3 2
  simp only [List.getElem?_toArray, List.getElem?_cons_zero, List.getElem?_cons_succ] at b0 b1 b2 c0 c1 c2
  have s1 := (hr.up hu0).str (n := pend.length) rfl
  have s2 := (hr2.up hu0).str (n := pend.length) rfl
  clear hr hr2 o2 o3
  go_enter Try.func26, Try.ntmps26
  go_wp2_with fail
  go_ret
  exact ⟨rfl, hu0⟩

set_option maxRecDepth 100000 in
theorem may_1 (seen bad : Int) (A : Option Addr) (n c : Nat) (w : World) (hnm : n ≤ 9223372036854775807) (h1 : seen < 0) :
    Calls Try.prog 17 #[.agg #[.int .i64 seen, .int .i64 bad, .slice A n c]] w fun e w' => e = .returned (.bool false) ∧ Up w w' := by
  go_enter Try.func17, Try.ntmps17
  go_wp2_with fail
  go_ret
  exact ⟨rfl, (Up.refl w).alloc _⟩

set_option maxRecDepth 100000 in
theorem may_2 (seen bad : Int) (A : Option Addr) (n c : Nat) (w : World) (hnm : n ≤ 9223372036854775807) (h1 : 0 ≤ seen) (h2 : 1099511627776 < seen) :
    Calls Try.prog 17 #[.agg #[.int .i64 seen, .int .i64 bad, .slice A n c]] w fun e w' => e = .returned (.bool false) ∧ Up w w' := by
  go_enter Try.func17, Try.ntmps17
  go_wp2_with fail
  go_ret
  exact ⟨rfl, (Up.refl w).alloc _⟩

set_option maxRecDepth 100000 in
theorem may_3 (seen bad : Int) (A : Option Addr) (n c : Nat) (w : World) (hnm : n ≤ 9223372036854775807) (h1 : 0 ≤ seen) (h2 : seen ≤ 1099511627776) (h3 : bad < -1) :
    Calls Try.prog 17 #[.agg #[.int .i64 seen, .int .i64 bad, .slice A n c]] w fun e w' => e = .returned (.bool false) ∧ Up w w' := by
  go_enter Try.func17, Try.ntmps17
  go_wp2_with fail
  go_ret
  exact ⟨rfl, (Up.refl w).alloc _⟩

set_option maxRecDepth 100000 in
theorem may_4 (seen bad : Int) (A : Option Addr) (n c : Nat) (w : World) (hnm : n ≤ 9223372036854775807) (h1 : 0 ≤ seen) (h2 : seen ≤ 1099511627776) (h3 : 0 ≤ bad) (h4 : seen ≤ bad) :
    Calls Try.prog 17 #[.agg #[.int .i64 seen, .int .i64 bad, .slice A n c]] w fun e w' => e = .returned (.bool false) ∧ Up w w' := by
  go_enter Try.func17, Try.ntmps17
  go_wp2_with fail
  go_ret
  exact ⟨rfl, (Up.refl w).alloc _⟩

set_option maxRecDepth 100000 in
theorem may_5 (seen bad : Int) (A : Option Addr) (n c : Nat) (w : World) (hnm : n ≤ 9223372036854775807) (h1 : 0 ≤ seen) (h2 : seen ≤ 1099511627776) (h3 : -1 ≤ bad) (h4 : bad < seen) (h5 : n = 0) :
    Calls Try.prog 17 #[.agg #[.int .i64 seen, .int .i64 bad, .slice A n c]] w fun e w' => e = .returned (.bool true) ∧ Up w w' := by
  subst h5
  go_enter Try.func17, Try.ntmps17
  go_wp2_with fail
  go_ret
  exact ⟨rfl, (Up.refl w).alloc _⟩

set_option maxRecDepth 100000 in
theorem may_6 (seen bad : Int) (A : Option Addr) (n c : Nat) (w : World) (hnm : n ≤ 9223372036854775807) (h1 : 0 ≤ seen) (h2 : seen ≤ 1099511627776) (h3 : -1 ≤ bad) (h4 : bad < seen) (h5 : 0 < n) (hop : ∀ w1, Up w w1 → Calls Try.prog 10 #[.slice A n c] w1 fun e w' => e = .returned (.bool false) ∧ Up w1 w') :
    Calls Try.prog 17 #[.agg #[.int .i64 seen, .int .i64 bad, .slice A n c]] w fun e w' => e = .returned (.bool false) ∧ Up w w' := by
  go_enter Try.func17, Try.ntmps17
  go_wp2_with fail
  refine (hop _ ((Up.refl w).alloc _)).mono ?_
  rintro e w1 ⟨rfl, hu⟩
  have d0 := obj_cell (obj_up (heap_alloc_new w _) hu) 0
  have d1 := obj_cell (obj_up (heap_alloc_new w _) hu) 1
  have d2 := obj_cell (obj_up (heap_alloc_new w _) hu) 2
  simp only [List.getElem?_toArray, List.getElem?_cons_zero, List.getElem?_cons_succ] at d0 d1 d2
  clear hop
  go_wp2_with fail
  go_ret
  exact ⟨rfl, ((Up.refl w).alloc _).trans hu⟩

set_option maxRecDepth 100000 in
theorem may_7 (seen bad : Int) (A : Option Addr) (n c : Nat) (w : World) (hnm : n ≤ 9223372036854775807) (h1 : 0 ≤ seen) (h2 : seen ≤ 1099511627776) (h3 : -1 ≤ bad) (h4 : bad < seen) (h5 : 0 < n) (h6 : seen < n) (hop : ∀ w1, Up w w1 → Calls Try.prog 10 #[.slice A n c] w1 fun e w' => e = .returned (.bool true) ∧ Up w1 w') :
    Calls Try.prog 17 #[.agg #[.int .i64 seen, .int .i64 bad, .slice A n c]] w fun e w' => e = .returned (.bool false) ∧ Up w w' := by
  go_enter Try.func17, Try.ntmps17
  go_wp2_with fail
  refine (hop _ ((Up.refl w).alloc _)).mono ?_
  rintro e w1 ⟨rfl, hu⟩
  have d0 := obj_cell (obj_up (heap_alloc_new w _) hu) 0
  have d1 := obj_cell (obj_up (heap_alloc_new w _) hu) 1
  have d2 := obj_cell (obj_up (heap_alloc_new w _) hu) 2
  simp only [List.getElem?_toArray, List.getElem?_cons_zero, List.getElem?_cons_succ] at d0 d1 d2
  clear hop
  go_wp2_with fail
  go_ret
  exact ⟨rfl, ((Up.refl w).alloc _).trans hu⟩

set_option maxRecDepth 100000 in
theorem may_8 (seen bad : Int) (A : Option Addr) (n c : Nat) (w : World) (hnm : n ≤ 9223372036854775807) (h1 : 0 ≤ seen) (h2 : seen ≤ 1099511627776) (h3 : -1 ≤ bad) (h4 : bad < seen) (h5 : 0 < n) (h6 : (n : Int) ≤ seen) (h7 : bad ≠ -1) (hop : ∀ w1, Up w w1 → Calls Try.prog 10 #[.slice A n c] w1 fun e w' => e = .returned (.bool true) ∧ Up w1 w') :
    Calls Try.prog 17 #[.agg #[.int .i64 seen, .int .i64 bad, .slice A n c]] w fun e w' => e = .returned (.bool false) ∧ Up w w' := by
  have h8 : (bad == -1) = false := by simp; omega
  go_enter Try.func17, Try.ntmps17
  go_wp2_with fail
  refine (hop _ ((Up.refl w).alloc _)).mono ?_
  rintro e w1 ⟨rfl, hu⟩
  have d0 := obj_cell (obj_up (heap_alloc_new w _) hu) 0
  have d1 := obj_cell (obj_up (heap_alloc_new w _) hu) 1
  have d2 := obj_cell (obj_up (heap_alloc_new w _) hu) 2
  simp only [List.getElem?_toArray, List.getElem?_cons_zero, List.getElem?_cons_succ] at d0 d1 d2
  clear hop
  go_wp2_with fail
  go_ret
  exact ⟨rfl, ((Up.refl w).alloc _).trans hu⟩

set_option maxRecDepth 100000 in
theorem may_9 (seen : Int) (A : Option Addr) (n c : Nat) (w : World) (hnm : n ≤ 9223372036854775807) (h1 : 0 ≤ seen) (h2 : seen ≤ 1099511627776) (h3 : -1 ≤ (-1)) (h4 : (-1) < seen) (h5 : 0 < n) (h6 : (n : Int) ≤ seen) (hop : ∀ w1, Up w w1 → Calls Try.prog 10 #[.slice A n c] w1 fun e w' => e = .returned (.bool true) ∧ Up w1 w') :
    Calls Try.prog 17 #[.agg #[.int .i64 seen, .int .i64 (-1), .slice A n c]] w fun e w' => e = .returned (.bool true) ∧ Up w w' := by
  go_enter Try.func17, Try.ntmps17
  go_wp2_with fail
  refine (hop _ ((Up.refl w).alloc _)).mono ?_
  rintro e w1 ⟨rfl, hu⟩
  have d0 := obj_cell (obj_up (heap_alloc_new w _) hu) 0
  have d1 := obj_cell (obj_up (heap_alloc_new w _) hu) 1
  have d2 := obj_cell (obj_up (heap_alloc_new w _) hu) 2
  simp only [List.getElem?_toArray, List.getElem?_cons_zero, List.getElem?_cons_succ] at d0 d1 d2
  clear hop
  go_wp2_with fail
  go_ret
  exact ⟨rfl, ((Up.refl w).alloc _).trans hu⟩

theorem may_no (s : U.St) (A : Option Addr) (c : Nat) (w : World) (hr : Rd w A c (bs s.pend)) (h : ¬ s.ok) :
    Calls Try.prog 17 #[agg s A c] w fun e w' => e = .returned (.bool false) ∧ Up w w' := by
  unfold agg
  have hf := hr.fit
  have hmx := hr.max
  rw [bs_len] at hf
  unfold maxLen at hmx
  have hnm : s.pend.length ≤ 9223372036854775807 := by omega
  by_cases h1 : s.seen < 0
  · exact may_1 _ _ A _ c w hnm h1
  by_cases h2 : 1099511627776 < s.seen
  · exact may_2 _ _ A _ c w hnm (by omega) h2
  by_cases h3 : s.bad < -1
  · exact may_3 _ _ A _ c w hnm (by omega) (by omega) h3
  by_cases h4 : s.seen ≤ s.bad
  · exact may_4 _ _ A _ c w hnm (by omega) (by omega) (by omega) h4
  have hop : ∀ w1, Up w w1 → Calls Try.prog 10 #[.slice A s.pend.length c] w1 fun e w' => e = .returned (.bool (decide (U.opn s.pend))) ∧ Up w1 w' := fun w1 hu => ropen_ref A c _ s.pend w1 (hr.up hu) rfl
  by_cases h5 : 0 < s.pend.length
  · by_cases ho : U.opn s.pend
    · have e : decide (U.opn s.pend) = true := by simpa using ho
      rw [e] at hop
      by_cases h6 : s.seen < s.pend.length
      · exact may_7 _ _ A _ c w hnm (by omega) (by omega) (by omega) (by omega) h5 h6 hop
      · by_cases h7 : s.bad = -1
        · exact absurd ⟨by omega, by omega, by omega, .inl (by omega), .inr ⟨ho, by omega, h7⟩⟩ h
        · exact may_8 _ _ A _ c w hnm (by omega) (by omega) (by omega) (by omega) h5 (by omega) h7 hop
    · have e : decide (U.opn s.pend) = false := by simpa using ho
      rw [e] at hop
      exact may_6 _ _ A _ c w hnm (by omega) (by omega) (by omega) (by omega) h5 hop
  · exact absurd ⟨by omega, by omega, by omega, .inl (by omega), .inl (List.eq_nil_of_length_eq_zero (by omega))⟩ h

theorem may_yes (s : U.St) (A : Option Addr) (c : Nat) (w : World) (hr : Rd w A c (bs s.pend)) (h : s.ok) :
    Calls Try.prog 17 #[agg s A c] w fun e w' => e = .returned (.bool true) ∧ Up w w' := by
  have h3' := U.St.ok_pend h
  obtain ⟨h1, h2, h3, h4, h5⟩ := h
  unfold agg
  rcases h5 with h5 | ⟨ho, h6, h7⟩
  · exact may_5 _ _ A _ c w (by omega) (by omega) (by omega) (by omega) (by omega) (by rw [h5]; rfl)
  · have hl := U.opn_len ho
    have hop : ∀ w1, Up w w1 → Calls Try.prog 10 #[.slice A s.pend.length c] w1 fun e w' => e = .returned (.bool true) ∧ Up w1 w' := fun w1 hu => by
      have := ropen_ref A c _ s.pend w1 (hr.up hu) rfl
      rwa [show decide (U.opn s.pend) = true by simpa using ho] at this
    rw [h7]
    exact may_9 _ A _ c w (by omega) (by omega) (by omega) (by omega) (by omega) (by omega) (by omega) hop

end Go.Proofs.Ytdkegfookbgicaa
