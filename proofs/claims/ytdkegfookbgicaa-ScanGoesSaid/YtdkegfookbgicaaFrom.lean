/- scan.From. Written by program (wip/tools/fm.py). -/
import Derived.Test.YtdkegfookbgicaaFeed
namespace Go.Proofs.Ytdkegfookbgicaa
open Go.RowKit

set_option maxRecDepth 100000 in
theorem from_1 (seen bad : Int) (A : Option Addr) (n c : Nat) (w : World) (hnm : n ≤ 9223372036854775807) (h1 : seen < 0) :
    Calls Try.prog 16 #[.agg #[.int .i64 seen, .int .i64 bad, .slice A n c]] w fun e w' => e = .returned (.tuple #[.pointer none, .int .i64 2]) ∧ Up w w' := by
  go_enter Try.func16, Try.ntmps16
  go_wp2_with fail
  go_ret2
  exact ⟨rfl, (Up.refl w).alloc _⟩

set_option maxRecDepth 100000 in
theorem from_2 (seen bad : Int) (A : Option Addr) (n c : Nat) (w : World) (hnm : n ≤ 9223372036854775807) (h1 : 0 ≤ seen) (h2 : 1099511627776 < seen) :
    Calls Try.prog 16 #[.agg #[.int .i64 seen, .int .i64 bad, .slice A n c]] w fun e w' => e = .returned (.tuple #[.pointer none, .int .i64 2]) ∧ Up w w' := by
  go_enter Try.func16, Try.ntmps16
  go_wp2_with fail
  go_ret2
  exact ⟨rfl, (Up.refl w).alloc _⟩

set_option maxRecDepth 100000 in
theorem from_3 (seen bad : Int) (A : Option Addr) (n c : Nat) (w : World) (hnm : n ≤ 9223372036854775807) (h1 : 0 ≤ seen) (h2 : seen ≤ 1099511627776) (h3 : bad < -1) :
    Calls Try.prog 16 #[.agg #[.int .i64 seen, .int .i64 bad, .slice A n c]] w fun e w' => e = .returned (.tuple #[.pointer none, .int .i64 2]) ∧ Up w w' := by
  go_enter Try.func16, Try.ntmps16
  go_wp2_with fail
  go_ret2
  exact ⟨rfl, (Up.refl w).alloc _⟩

set_option maxRecDepth 100000 in
theorem from_4 (seen bad : Int) (A : Option Addr) (n c : Nat) (w : World) (hnm : n ≤ 9223372036854775807) (h1 : 0 ≤ seen) (h2 : seen ≤ 1099511627776) (h3 : -1 ≤ bad) (h4 : seen ≤ bad) :
    Calls Try.prog 16 #[.agg #[.int .i64 seen, .int .i64 bad, .slice A n c]] w fun e w' => e = .returned (.tuple #[.pointer none, .int .i64 2]) ∧ Up w w' := by
  go_enter Try.func16, Try.ntmps16
  go_wp2_with fail
  go_ret2
  exact ⟨rfl, (Up.refl w).alloc _⟩

set_option maxRecDepth 100000 in
theorem from_5 (seen bad : Int) (A : Option Addr) (n c : Nat) (w : World) (hnm : n ≤ 9223372036854775807) (h1 : 0 ≤ seen) (h2 : seen ≤ 1099511627776) (h3 : -1 ≤ bad) (h4 : bad < seen) (h5 : 0 < n) (hop : ∀ w1, Up w w1 → Calls Try.prog 9 #[.slice A n c] w1 fun e w' => e = .returned (.bool false) ∧ Up w1 w') :
    Calls Try.prog 16 #[.agg #[.int .i64 seen, .int .i64 bad, .slice A n c]] w fun e w' => e = .returned (.tuple #[.pointer none, .int .i64 2]) ∧ Up w w' := by
  go_enter Try.func16, Try.ntmps16
  go_wp2_with fail
  refine (hop _ ((Up.refl w).alloc _)).mono ?_
  rintro e w1 ⟨rfl, hu⟩
  have d0 := obj_cell (obj_up (heap_alloc_new w _) hu) 0
  have d1 := obj_cell (obj_up (heap_alloc_new w _) hu) 1
  simp only [List.getElem?_toArray, List.getElem?_cons_zero, List.getElem?_cons_succ] at d0 d1
  clear hop
  go_wp2_with fail
  go_ret2
  exact ⟨rfl, ((Up.refl w).alloc _).trans hu⟩

set_option maxRecDepth 100000 in
theorem from_6 (seen bad : Int) (A : Option Addr) (n c : Nat) (w : World) (hnm : n ≤ 9223372036854775807) (h1 : 0 ≤ seen) (h2 : seen ≤ 1099511627776) (h3 : -1 ≤ bad) (h4 : bad < seen) (h5 : 0 < n) (h6 : seen < n) (hop : ∀ w1, Up w w1 → Calls Try.prog 9 #[.slice A n c] w1 fun e w' => e = .returned (.bool true) ∧ Up w1 w') :
    Calls Try.prog 16 #[.agg #[.int .i64 seen, .int .i64 bad, .slice A n c]] w fun e w' => e = .returned (.tuple #[.pointer none, .int .i64 2]) ∧ Up w w' := by
  go_enter Try.func16, Try.ntmps16
  go_wp2_with fail
  refine (hop _ ((Up.refl w).alloc _)).mono ?_
  rintro e w1 ⟨rfl, hu⟩
  have d0 := obj_cell (obj_up (heap_alloc_new w _) hu) 0
  have d1 := obj_cell (obj_up (heap_alloc_new w _) hu) 1
  simp only [List.getElem?_toArray, List.getElem?_cons_zero, List.getElem?_cons_succ] at d0 d1
  clear hop
  go_wp2_with fail
  go_ret2
  exact ⟨rfl, ((Up.refl w).alloc _).trans hu⟩

set_option maxRecDepth 100000 in
theorem from_7 (seen bad : Int) (A : Option Addr) (n c : Nat) (w : World) (hnm : n ≤ 9223372036854775807) (h1 : 0 ≤ seen) (h2 : seen ≤ 1099511627776) (h3 : -1 ≤ bad) (h4 : bad < seen) (h5 : 0 < n) (h6 : (n : Int) ≤ seen) (h7 : bad ≠ -1) (hop : ∀ w1, Up w w1 → Calls Try.prog 9 #[.slice A n c] w1 fun e w' => e = .returned (.bool true) ∧ Up w1 w') :
    Calls Try.prog 16 #[.agg #[.int .i64 seen, .int .i64 bad, .slice A n c]] w fun e w' => e = .returned (.tuple #[.pointer none, .int .i64 2]) ∧ Up w w' := by
  go_enter Try.func16, Try.ntmps16
  have h8 : (bad != -1) = true := by simp; omega
  go_wp2_with fail
  refine (hop _ ((Up.refl w).alloc _)).mono ?_
  rintro e w1 ⟨rfl, hu⟩
  have d0 := obj_cell (obj_up (heap_alloc_new w _) hu) 0
  have d1 := obj_cell (obj_up (heap_alloc_new w _) hu) 1
  simp only [List.getElem?_toArray, List.getElem?_cons_zero, List.getElem?_cons_succ] at d0 d1
  clear hop
  go_wp2_with fail
  go_ret2
  exact ⟨rfl, ((Up.refl w).alloc _).trans hu⟩

set_option maxRecDepth 100000 in
theorem from_8 (seen bad : Int) (A : Option Addr) (n c : Nat) (l : List UInt8) (w : World) (hr : Rd w A c (bs l)) (hn : n = l.length) (hn3 : n ≤ 3) (h1 : 0 ≤ seen) (h2 : seen ≤ 1099511627776) (h3 : -1 ≤ bad) (h4 : bad < seen) (h5 : n = 0) :
    Calls Try.prog 16 #[.agg #[.int .i64 seen, .int .i64 bad, .slice A n c]] w fun e w' => ∃ g k, e = .returned (.tuple #[.pointer (some ⟨g, 0, none⟩), .int .i64 0]) ∧ Sc w' g k ⟨seen, bad, l⟩ ∧ w.heap.size ≤ g ∧ w.heap.size ≤ k ∧ Up w w' := by
  obtain rfl : n = 0 := by omega
  have HR := Lib.hid hr
  have HN := Lib.hid hn
  clear hr hn
  go_enter Try.func16, Try.ntmps16
  go_wp2_with fail
  obtain ⟨w1, hw1⟩ : ∃ w1, w.alloc (.cells #[.int .i64 seen, .int .i64 bad, .slice A 0 c] 36) = w1 := ⟨_, rfl⟩
  have hu : Up w w1 := by rw [← hw1]; exact (Up.refl w).alloc _
  have ho : w1.heap[w.heap.size]? = some (.cells #[.int .i64 seen, .int .i64 bad, .slice A 0 c] 36 (0, 0)) := by rw [← hw1]; exact heap_alloc_new w _
  rw [hw1]
  clear hw1
  have HU := Lib.hid hu
  have HC := Lib.hid (fun w' (hu : Up w1.drew w') => obj_up (w := w1.drew) ho hu)
  clear hu
  refine wp_region_pi [(0, false), (1, false), (2, false), (3, false), (4, false), (5, false), (6, true), (7, false), (8, true), (9, false), (10, false)] (by kernel_rfl) (by kernel_rfl) (fun _ _ d _ _ h => by cases d <;> exact h) ?_
  iterate 6 (((with_reducible apply pi_take); (focus exact rfl); (focus exact rfl); (focus (intro w' hu; have c0 := obj_cell (HC.out w' hu) 0; have c1 := obj_cell (HC.out w' hu) 1; have c2 := obj_cell (HC.out w' hu) 2; simp only [List.getElem?_toArray, List.getElem?_cons_zero, List.getElem?_cons_succ] at c0 c1 c2; go_simp; try with_reducible rfl; done))); (simp only [Act.put, List.setIfInBounds_toArray, List.set_cons_succ, List.set_cons_zero]))
  refine pi_make rfl rfl (fun K hK => ?_)
  go_simp
  refine (clone_code A c 0 l _ (HR.out.up (HU.out.trans (Up.refl _).drew)) HN.out (by omega)).mono ?_
  rintro e w3 ⟨A1, cA, rfl, hrd1, hu1, hown1⟩
  refine hK.out _ _ hu1 ?_
  clear hK K
  have HU1 := Lib.hid hu1
  have HOW := Lib.hid hown1
  clear hrd1 hu1 hown1
  iterate 1 (((with_reducible apply pi_take); (focus exact rfl); (focus exact rfl); (focus (intro w' hu; go_simp; try with_reducible rfl; done))); (simp only [Act.put, List.setIfInBounds_toArray, List.set_cons_succ, List.set_cons_zero]))
  refine pi_make rfl rfl (fun K hK => ?_)
  go_simp
  refine hK.out _ _ ((Up.refl _).alloc _) ?_
  clear hK K
  iterate 2 (((with_reducible apply pi_take); (focus exact rfl); (focus exact rfl); (focus (intro w' hu; go_simp; try with_reducible rfl; done))); (simp only [Act.put, List.setIfInBounds_toArray, List.set_cons_succ, List.set_cons_zero]))
  refine pi_done ?_
  go_wp2
  go_ret2
  have hsz := (HU.out.trans (Up.of_drew HU1.out)).size
  have hs1 := HU.out.size
  have hs2 : w1.drew.heap.size = w1.heap.size := rfl
  have hlt := HOW.out.lt
  obtain ⟨k, hk, hkw, hk3⟩ : ∃ k, ((Value.slice A1 0 cA).ownBlock = none ∨ ((Value.slice A1 0 cA).ownBlock = some k ∧ k ≠ w3.heap.size)) ∧ w.heap.size ≤ k ∧ k < w3.heap.size + 1 := by
    cases hb : (Value.slice A1 0 cA).ownBlock with
    | none => exact ⟨w3.heap.size, .inl rfl, by omega, by omega⟩
    | some b => have := hlt b hb; exact ⟨b, .inr ⟨rfl, by omega⟩, by omega, by omega⟩
  refine ⟨_, k, rfl, ⟨⟨_, heap_alloc_new w3 _, ?_, hk⟩, by simpa using hk3⟩, by omega, hkw, (HU.out.trans (Up.of_drew HU1.out)).alloc _⟩
  have := own_base (HOW.out.alloc (.cells #[.int .i64 seen, .int .i64 bad, .slice A1 0 cA] 53)) (Nat.zero_le _)
  rw [← HN.out]
  exact this

set_option maxRecDepth 100000 in
theorem from_9 (seen bad : Int) (A : Option Addr) (n c : Nat) (l : List UInt8) (w : World) (hr : Rd w A c (bs l)) (hn : n = l.length) (hn3 : n ≤ 3) (h1 : 0 ≤ seen) (h2 : seen ≤ 1099511627776) (h3 : -1 ≤ bad) (h4 : bad < seen) (h5 : 0 < n) (h6 : (n : Int) ≤ seen) (h7 : bad = -1) (hop : ∀ w1, Up w w1 → Calls Try.prog 9 #[.slice A n c] w1 fun e w' => e = .returned (.bool true) ∧ Up w1 w') :
    Calls Try.prog 16 #[.agg #[.int .i64 seen, .int .i64 bad, .slice A n c]] w fun e w' => ∃ g k, e = .returned (.tuple #[.pointer (some ⟨g, 0, none⟩), .int .i64 0]) ∧ Sc w' g k ⟨seen, bad, l⟩ ∧ w.heap.size ≤ g ∧ w.heap.size ≤ k ∧ Up w w' := by
  subst h7
  have HR := Lib.hid hr
  have HN := Lib.hid hn
  clear hr hn
  go_enter Try.func16, Try.ntmps16
  go_wp2_with fail
  have ho0 := heap_alloc_new w (.cells #[.int .i64 seen, .int .i64 (-1), .slice A n c] 36)
  refine (hop _ ((Up.refl w).alloc _)).mono ?_
  rintro e w1 ⟨rfl, hu0⟩
  have ho := obj_up ho0 hu0
  have hu : Up w w1 := ((Up.refl w).alloc _).trans hu0
  have d0 := obj_cell ho 0
  have d1 := obj_cell ho 1
  simp only [List.getElem?_toArray, List.getElem?_cons_zero, List.getElem?_cons_succ] at d0 d1
  clear hop hu0 ho0
  go_wp2_with fail
  have HU := Lib.hid hu
  have HC := Lib.hid (fun w' (hu : Up w1.drew w') => obj_up (w := w1.drew) ho hu)
  clear hu
  refine wp_region_pi [(0, false), (1, false), (2, false), (3, false), (4, false), (5, false), (6, true), (7, false), (8, true), (9, false), (10, false)] (by kernel_rfl) (by kernel_rfl) (fun _ _ d _ _ h => by cases d <;> exact h) ?_
  iterate 6 (((with_reducible apply pi_take); (focus exact rfl); (focus exact rfl); (focus (intro w' hu; have c0 := obj_cell (HC.out w' hu) 0; have c1 := obj_cell (HC.out w' hu) 1; have c2 := obj_cell (HC.out w' hu) 2; simp only [List.getElem?_toArray, List.getElem?_cons_zero, List.getElem?_cons_succ] at c0 c1 c2; go_simp; try with_reducible rfl; done))); (simp only [Act.put, List.setIfInBounds_toArray, List.set_cons_succ, List.set_cons_zero]))
  refine pi_make rfl rfl (fun K hK => ?_)
  go_simp
  refine (clone_code A c n l _ (HR.out.up (HU.out.trans (Up.refl _).drew)) HN.out (by omega)).mono ?_
  rintro e w3 ⟨A1, cA, rfl, hrd1, hu1, hown1⟩
  refine hK.out _ _ hu1 ?_
  clear hK K
  have HU1 := Lib.hid hu1
  have HOW := Lib.hid hown1
  clear hrd1 hu1 hown1
  iterate 1 (((with_reducible apply pi_take); (focus exact rfl); (focus exact rfl); (focus (intro w' hu; go_simp; try with_reducible rfl; done))); (simp only [Act.put, List.setIfInBounds_toArray, List.set_cons_succ, List.set_cons_zero]))
  refine pi_make rfl rfl (fun K hK => ?_)
  go_simp
  refine hK.out _ _ ((Up.refl _).alloc _) ?_
  clear hK K
  iterate 2 (((with_reducible apply pi_take); (focus exact rfl); (focus exact rfl); (focus (intro w' hu; go_simp; try with_reducible rfl; done))); (simp only [Act.put, List.setIfInBounds_toArray, List.set_cons_succ, List.set_cons_zero]))
  refine pi_done ?_
  go_wp2
  go_ret2
  have hsz := (HU.out.trans (Up.of_drew HU1.out)).size
  have hs1 := HU.out.size
  have hs2 : w1.drew.heap.size = w1.heap.size := rfl
  have hlt := HOW.out.lt
  obtain ⟨k, hk, hkw, hk3⟩ : ∃ k, ((Value.slice A1 n cA).ownBlock = none ∨ ((Value.slice A1 n cA).ownBlock = some k ∧ k ≠ w3.heap.size)) ∧ w.heap.size ≤ k ∧ k < w3.heap.size + 1 := by
    cases hb : (Value.slice A1 n cA).ownBlock with
    | none => exact ⟨w3.heap.size, .inl rfl, by omega, by omega⟩
    | some b => have := hlt b hb; exact ⟨b, .inr ⟨rfl, by omega⟩, by omega, by omega⟩
  refine ⟨_, k, rfl, ⟨⟨_, heap_alloc_new w3 _, ?_, hk⟩, by simpa using hk3⟩, by omega, hkw, (HU.out.trans (Up.of_drew HU1.out)).alloc _⟩
  have := own_base (HOW.out.alloc (.cells #[.int .i64 seen, .int .i64 (-1), .slice A1 n cA] 53)) (Nat.zero_le _)
  rw [← HN.out]
  exact this

theorem from_bad (s : U.St) (A : Option Addr) (n c : Nat) (w : World) (hr : Rd w A c (bs s.pend)) (hn : n = s.pend.length) (h : ¬ s.ok) :
    Calls Try.prog 16 #[.agg #[.int .i64 s.seen, .int .i64 s.bad, .slice A n c]] w fun e w' => e = .returned (.tuple #[.pointer none, .int .i64 2]) ∧ Up w w' := by
  have hf := hr.fit
  have hmx := hr.max
  rw [bs_len] at hf
  unfold maxLen at hmx
  have hnm : n ≤ 9223372036854775807 := by omega
  by_cases h1 : s.seen < 0
  · exact from_1 _ _ A n c w hnm h1
  by_cases h2 : 1099511627776 < s.seen
  · exact from_2 _ _ A n c w hnm (by omega) h2
  by_cases h3 : s.bad < -1
  · exact from_3 _ _ A n c w hnm (by omega) (by omega) h3
  by_cases h4 : s.seen ≤ s.bad
  · exact from_4 _ _ A n c w hnm (by omega) (by omega) (by omega) h4
  have hop : ∀ w1, Up w w1 → Calls Try.prog 9 #[.slice A n c] w1 fun e w' => e = .returned (.bool (decide (U.opn s.pend))) ∧ Up w1 w' := fun w1 hu => open_code A c n s.pend w1 (hr.up hu) hn
  by_cases h5 : 0 < n
  · by_cases ho : U.opn s.pend
    · have e : decide (U.opn s.pend) = true := by simpa using ho
      rw [e] at hop
      by_cases h6 : s.seen < n
      · exact from_6 _ _ A n c w hnm (by omega) (by omega) (by omega) (by omega) h5 h6 hop
      · by_cases h7 : s.bad = -1
        · exact absurd ⟨by omega, by omega, by omega, .inl (by omega), .inr ⟨ho, by omega, h7⟩⟩ h
        · exact from_7 _ _ A n c w hnm (by omega) (by omega) (by omega) (by omega) h5 (by omega) h7 hop
    · have e : decide (U.opn s.pend) = false := by simpa using ho
      rw [e] at hop
      exact from_5 _ _ A n c w hnm (by omega) (by omega) (by omega) (by omega) h5 hop
  · exact absurd ⟨by omega, by omega, by omega, .inl (by omega), .inl (List.eq_nil_of_length_eq_zero (by omega))⟩ h

theorem from_ok (s : U.St) (A : Option Addr) (n c : Nat) (w : World) (hr : Rd w A c (bs s.pend)) (hn : n = s.pend.length) (h : s.ok) :
    Calls Try.prog 16 #[.agg #[.int .i64 s.seen, .int .i64 s.bad, .slice A n c]] w fun e w' => ∃ g k, e = .returned (.tuple #[.pointer (some ⟨g, 0, none⟩), .int .i64 0]) ∧ Sc w' g k s ∧ w.heap.size ≤ g ∧ w.heap.size ≤ k ∧ Up w w' := by
  obtain ⟨h1, h2, h3, h4, h5⟩ := h
  rcases h5 with h5 | ⟨ho, h6, h7⟩
  · have hn0 : n = 0 := by rw [hn, h5]; rfl
    exact from_8 _ _ A n c s.pend w hr hn (by omega) h1 h2 h3 (by omega) hn0
  · have hl := U.opn_len ho
    have hop : ∀ w1, Up w w1 → Calls Try.prog 9 #[.slice A n c] w1 fun e w' => e = .returned (.bool true) ∧ Up w1 w' := fun w1 hu => by
      have := open_code A c n s.pend w1 (hr.up hu) hn
      rwa [show decide (U.opn s.pend) = true by simpa using ho] at this
    exact from_9 _ _ A n c s.pend w hr hn (by omega) h1 h2 h3 (by omega) (by omega) (by omega) h7 hop

end Go.Proofs.Ytdkegfookbgicaa
