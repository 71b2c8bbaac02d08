/- What is asked of the program's decomp; the closed cases of stage 5. -/
import Derived.Test.YthdhlcafomhdbaaDoorDcl
import Derived.Test.YthdhlcafomhdbaaDoorSmg
import Derived.Test.YthdhlcafomhdbaaDoorUav
import Derived.Test.YthdhlcafomhdbaaDoorHgo
namespace Go.Proofs.YthdhlcafomhdbaaDoor
open Go.RowKit

/-- What the program's functions answer. -/
structure DecompOk : Prop where
  full : ∀ (c : Nat) (w : World), HRows w → c < 4294967296 → Calls Tryd.prog 8 #[.int .u32 (c : Int)] w (Gives (full c) w)
  list : ∀ (A : Option Addr) (n d : Nat) (l : List Nat) (w : World), HRows w → Rd w A d (us l) → n = l.length → n ≤ 100000 → (∀ c ∈ l, c < 4294967296) → Calls Tryd.prog 13 #[.slice A n d] w (Gives (l.flatMap Go.Proofs.YthdhlcafomhdbaaDoor.full) w)
  whole : ∀ (c : Nat) (w : World), HRows w → c < 4294967296 → Calls Tryd.prog 11 #[.int .u32 (c : Int)] w fun e w' => e = .returned (.bool (decide (Go.Proofs.YthdhlcafomhdbaaDoor.full c = [c]))) ∧ Up w w'

theorem k5_436 : key decS.data.toList 16 436 = 7701 := by kernel_rfl
theorem k5_436a : fld decS.data.toList 16 436 5 5 = 275 := by kernel_rfl
theorem k5_436b : fld decS.data.toList 16 436 10 5 = 768 := by kernel_rfl
theorem k5_70 : key decS.data.toList 16 70 = 275 := by kernel_rfl
theorem k5_70a : fld decS.data.toList 16 70 5 5 = 101 := by kernel_rfl
theorem k5_70b : fld decS.data.toList 16 70 10 5 = 772 := by kernel_rfl
theorem row_ne {c k : Nat} (h : rowOf c = k + 1) : rowOf c ≠ 0 := by omega
theorem full_step {c a b k : Nat} {l : List Nat} (h : rowOf c = k + 1) (ha : decA c = a) (hb : decB c = b) (hl : full a = l) (hb0 : b ≠ 0) : full c = l ++ [b] := by
  rw [full_row (row_ne h), ha, hb, hl, if_neg hb0]
theorem small_full {c : Nat} (h : c < 192) : full c = [c] :=
  full_no (by rw [Bool.eq_false_iff]; intro h2; have := (isS_iff c).1 h2; omega) (row_less (Nat.lt_of_lt_of_le h (geq k_dec0 (Nat.le_refl _))))
theorem v5_275 : full 275 = [101] ++ [772] :=
  full_step (row_of_key (j := 70) (by decide) k5_70) ((row_dec (row_of_key (j := 70) (by decide) k5_70)).1.trans k5_70a) ((row_dec (row_of_key (j := 70) (by decide) k5_70)).2.1.trans k5_70b) (small_full (by decide)) (by decide)
theorem v5_7701 : full 7701 = [101, 772, 768] :=
  full_step (row_of_key (j := 436) (by decide) k5_436) ((row_dec (row_of_key (j := 436) (by decide) k5_436)).1.trans k5_436a) ((row_dec (row_of_key (j := 436) (by decide) k5_436)).2.1.trans k5_436b) v5_275 (by decide)

set_option maxRecDepth 100000 in
theorem awake_5 (H : DecompOk) (w : World) (h : HRows w) : Calls Tryd.prog 12 #[] w fun e w' => e = .returned (.bool true) ∧ Up w w' := by
  have c1 := Lib.hid (fun w h => H.full 7701 w h (by decide))
  have c2 := Lib.hid (fun w h => H.whole 7701 w h (by decide))
  have c3 := Lib.hid (fun w h => H.whole 101 w h (by decide))
  have e1 : decide (full 7701 = [7701]) = false := by rw [v5_7701]; decide
  have e2 : decide (full 101 = [101]) = true := decide_eq_true (small_full (by decide))
  rw [v5_7701] at c1
  rw [e1] at c2
  rw [e2] at c3
  clear H e1 e2
  have C1 := c1.out
  have C2 := c2.out
  have C3 := c3.out
  go_enter Tryd.func12, Tryd.ntmps12
  go_wp2_with fail
  refine (C1 _ h).mono ?_
  rintro e w1 ⟨A, d, rfl, hO, hu⟩
  have hr1 := own_read (own_up hO ((Up.refl w1).alloc (.cells #[.int .u32 101, .int .u32 772, .int .u32 768] 22)))
  have hr2 := own_read (own_lit w1 [101, 772, 768] 3 rfl (by omega))
  have HS := Lib.hid (same_gen A (some ⟨w1.heap.size, 0, none⟩) d 3 3 3 [101, 772, 768] [101, 772, 768] _ hr1 hr2 rfl rfl)
  clear hr1 hr2 hO
  go_wp2_with fail
  refine HS.out.mono ?_
  rintro e w2 ⟨rfl, hu2⟩
  have hu3 := (hu.alloc _).trans hu2
  go_wp2_with fail
  refine (C2 _ (h.up hu3)).mono ?_
  rintro e w3 ⟨rfl, hu4⟩
  go_wp2_with fail
  refine (C3 _ (h.up (hu3.trans hu4))).mono ?_
  rintro e w4 ⟨rfl, hu5⟩
  go_wp2_with fail
  go_ret
  exact ⟨rfl, (hu3.trans hu4).trans hu5⟩

end Go.Proofs.YthdhlcafomhdbaaDoor
