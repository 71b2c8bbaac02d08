/- What is asked of the program's compose; the closed cases of stage 7. -/
import Derived.Test.YtdhnjfkpehigiaaDoorCox
import Derived.Test.YtdhnjfkpehigiaaDoorHga
import Derived.Test.YtdhnjfkpehigiaaDoorUpo
namespace Go.Proofs.YtdhnjfkpehigiaaDoor
open Go.RowKit Go.Proofs.YtdhnjfkpehigiaaDoor.Ordr Go.Proofs.YtdhnjfkpehigiaaDoor.Cmpr

/-- What the program's functions answer. -/
structure ComposeOk : Prop where
  two : ∀ (a b : Nat) (w : World), HRows w → a < 4294967296 → b < 4294967296 → Calls Tryd.prog 66 #[.int .u32 (a : Int), .int .u32 (b : Int)] w fun e w' => e = .returned (.tuple #[.int .u32 (twoC a b : Int), .bool (twoOk a b)]) ∧ Up w w'
  compose : ∀ (A : Option Addr) (n d : Nat) (l : List Nat) (w : World), HRows w → Rd w A d (us l) → n = l.length → n ≤ 100000 → (∀ c ∈ l, c < 4294967296) → Calls Tryd.prog 38 #[.slice A n d] w (Gives (comp clsOf twoO l) w)

theorem no789 : allRows (fun l => bif Nat.beq (f5 5 l) 789 then false else true) 15 941 parS.data.toList = true := by kernel_rfl
theorem sec_of_rows {c : Nat} (h1 : hanV c = false) (h2 : ∀ i, i < 941 → f5 5 (parS.data.toList.drop (i * 15)) ≠ c) : secOf c = false := by
  unfold secOf
  rw [h1, Bool.false_or, Bool.eq_false_iff]
  intro h
  obtain ⟨i, hi, h⟩ := (isSec_iff c).1 h
  refine h2 i hi ?_
  rw [f5_fld]
  exact h
theorem sec_789 : secOf 789 = false := sec_of_rows (by decide) (fun i hi he => by
  have hr := allRows_at _ 15 941 _ i no789 hi
  simp only [he] at hr
  exact Bool.noConfusion hr)

theorem k_cls1b : fld clsS.data.toList 12 1 5 5 = 789 := by kernel_rfl
theorem k_cls1c : fld clsS.data.toList 12 1 10 2 = 232 := by kernel_rfl
theorem k_cls2 : key clsS.data.toList 12 2 = 790 := by kernel_rfl
theorem v_789 : clsOf 789 = 232 := (cls_of (i := 1) (by decide) (leq k_cls1 (by decide)) (geq k_cls2 (by decide)) (geq k_cls1b (by decide))).trans k_cls1c
theorem comp_case (cls : Nat → Nat) (two : Nat → Nat → Option Nat) (h1 : cls 101 = 0) (h2 : cls 769 = 230) (h3 : cls 789 = 232) (h4 : cls 4352 = 0) (t1 : two 101 769 = some 233) (t2 : two 101 789 = none) (t3 : two 4352 4449 = some 44032) (t4 : two 44032 4520 = some 44033) :
    comp cls two [101, 769] = [233] ∧ comp cls two [4352, 4449, 4520] = [44033] ∧ comp cls two [101, 789, 769] = [101, 789, 769] := by
  refine ⟨?_, ?_, ?_⟩
  · simp [comp, run, Cmpr.step, Cmpr.keep, Cmpr.blocked, back, h1, t1]
  · simp [comp, run, Cmpr.step, Cmpr.keep, Cmpr.blocked, back, h4, t3, t4]
  · simp [comp, run, Cmpr.step, Cmpr.keep, Cmpr.blocked, back, h1, h2, h3, t2]
theorem small_cls {c : Nat} (h : c < 768) : clsOf c = 0 := cls_none (Nat.lt_of_lt_of_le h (geq k_cls0 (Nat.le_refl _)))
theorem comp_vals : comp clsOf twoO [101, 769] = [233] ∧ comp clsOf twoO [4352, 4449, 4520] = [44033] ∧ comp clsOf twoO [101, 789, 769] = [101, 789, 769] := by
  have hp := v_pair
  refine comp_case clsOf twoO (small_cls (by decide)) v_cls v_789 (jam_cls (.inl (by decide))) (two_pair (by decide) hp) (two_not sec_789 101) ?_ ?_
  · rw [two_join (show joinOk 4352 4449 = true by decide)]; decide
  · rw [two_join (show joinOk 44032 4520 = true by decide)]; decide

set_option maxRecDepth 100000 in
theorem awake_7 (H : ComposeOk) (w : World) (h : HRows w) : Calls Tryd.prog 41 #[] w fun e w' => e = .returned (.bool true) ∧ Up w w' := by
  obtain ⟨e1, e2, e3⟩ := comp_vals
  have c1 := Lib.hid (fun w h => H.compose (some ⟨w.heap.size, 0, none⟩) 2 2 [101, 769] (w.alloc (.cells (us [101, 769]).toArray 27)) h (own_read (own_lit w [101, 769] 2 rfl (by omega))) rfl (by omega) (by decide))
  have c2 := Lib.hid (fun w h => H.compose (some ⟨w.heap.size, 0, none⟩) 3 3 [4352, 4449, 4520] (w.alloc (.cells (us [4352, 4449, 4520]).toArray 27)) h (own_read (own_lit w [4352, 4449, 4520] 3 rfl (by omega))) rfl (by omega) (by decide))
  have c3 := Lib.hid (fun w h => H.compose (some ⟨w.heap.size, 0, none⟩) 3 3 [101, 789, 769] (w.alloc (.cells (us [101, 789, 769]).toArray 27)) h (own_read (own_lit w [101, 789, 769] 3 rfl (by omega))) rfl (by omega) (by decide))
  rw [e1] at c1
  rw [e2] at c2
  rw [e3] at c3
  clear H e1 e2 e3
  have C1 := Lib.hid (c1.out w (h.up ((Up.refl w).alloc _)))
  clear c1
  go_enter Tryd.func41, Tryd.ntmps41
  go_wp2_with fail
  refine C1.out.mono ?_
  rintro e w1 ⟨A, d, rfl, hO, hu⟩
  have hS1 := Lib.hid (same_gen A (some ⟨w1.heap.size, 0, none⟩) d 1 1 1 [233] [233] _ (own_read (own_up hO ((Up.refl w1).alloc (.cells #[.int .u32 233] 27)))) (own_read (own_lit w1 [233] 1 rfl (by omega))) rfl rfl)
  clear hO C1
  go_wp2_with fail
  refine hS1.out.mono ?_
  rintro e w2 ⟨rfl, hu2⟩
  have hu02 := (((Up.refl w).alloc _).trans hu).trans (((Up.refl w1).alloc _).trans hu2)
  clear hu hu2 hS1
  have C2 := Lib.hid (c2.out w2 (h.up (hu02.alloc _)))
  clear c2
  go_wp2_with fail
  refine C2.out.mono ?_
  rintro e w3 ⟨A3, d3, rfl, hO3, hu3⟩
  have hS3 := Lib.hid (same_gen A3 (some ⟨w3.heap.size, 0, none⟩) d3 1 1 1 [44033] [44033] _ (own_read (own_up hO3 ((Up.refl w3).alloc (.cells #[.int .u32 44033] 27)))) (own_read (own_lit w3 [44033] 1 rfl (by omega))) rfl rfl)
  clear hO3 C2
  go_wp2_with fail
  refine hS3.out.mono ?_
  rintro e w4 ⟨rfl, hu4⟩
  have hu04 := hu02.trans ((((Up.refl w2).alloc _).trans hu3).trans (((Up.refl w3).alloc _).trans hu4))
  clear hu3 hu4 hS3 hu02
  have C3 := Lib.hid (c3.out w4 (h.up (hu04.alloc _)))
  clear c3
  go_wp2_with fail
  refine C3.out.mono ?_
  rintro e w5 ⟨A5, d5, rfl, hO5, hu5⟩
  have hS5 := Lib.hid (same_gen A5 (some ⟨w5.heap.size, 0, none⟩) d5 3 3 3 [101, 789, 769] [101, 789, 769] _ (own_read (own_up hO5 ((Up.refl w5).alloc (.cells #[.int .u32 101, .int .u32 789, .int .u32 769] 27)))) (own_read (own_lit w5 [101, 789, 769] 3 rfl (by omega))) rfl rfl)
  clear hO5 C3
  go_wp2_with fail
  refine hS5.out.mono ?_
  rintro e w6 ⟨rfl, hu6⟩
  go_wp2_with fail
  go_ret
  exact ⟨rfl, hu04.trans ((((Up.refl w4).alloc _).trans hu5).trans (((Up.refl w5).alloc _).trans hu6))⟩

end Go.Proofs.YtdhnjfkpehigiaaDoor
