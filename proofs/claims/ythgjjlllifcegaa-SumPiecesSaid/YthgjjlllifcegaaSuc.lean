/- What is asked of the program's sum; the closed cases of stage 9. -/
import Derived.Test.YthgjjlllifcegaaSub
import Derived.Lib.SlBytesConst
namespace Go.Proofs.Ythgjjlllifcegaa
open Go.RowKit

/-- What the program's functions answer. rep: how a Sum is held. -/
structure SumOk (rep : Nat → Nat) : Prop where
  of : ∀ (A : Option Addr) (n d : Nat) (l : List UInt8) (w : World), Rd w A d (bs l) → n = l.length → Calls Try.prog 9 #[.slice A n d] w fun e w' => e = .returned (.int .u32 (crcOf l : Int)) ∧ Up w w'
  start : ∀ (w : World), Calls Try.prog 14 #[] w fun e w' => e = .returned (.int .u32 (rep 0 : Int)) ∧ Up w w'
  add : ∀ (A : Option Addr) (n d v : Nat) (l : List UInt8) (w : World), v < 4294967296 → Rd w A d (bs l) → n = l.length → Calls Try.prog 15 #[.int .u32 (rep v : Int), .slice A n d] w fun e w' => e = .returned (.int .u32 (rep (crcOn v l) : Int)) ∧ Up w w'
  value : ∀ (v : Nat) (w : World), v < 4294967296 → Calls Try.prog 13 #[.int .u32 (rep v : Int)] w fun e w' => e = .returned (.int .u32 (v : Int)) ∧ Up w w'
  from_ : ∀ (v : Nat) (w : World), v < 4294967296 → Calls Try.prog 12 #[.int .u32 (v : Int)] w fun e w' => e = .returned (.int .u32 (rep v : Int)) ∧ Up w w'

theorem crc_digits : crcOf [49, 50, 51, 52, 53, 54, 55, 56, 57] = 3421780262 := by decide +kernel
theorem crc_cut : crcOn (crcOn 0 [49, 50, 51, 52]) [53, 54, 55, 56, 57] = 3421780262 := by decide +kernel

/-- A constant's bytes: the row bears a mark behind its last place. -/
theorem rd_mark (w : World) (l : List UInt8) (n : Nat) (fr : Nat × Nat) (hn : n = l.length) (hm : n ≤ 1000) : Rd (w.alloc (.cells (bs l).toArray 5 fr)) (some ⟨w.heap.size, 0, none⟩) n (bs l) := by
  subst hn
  refine ⟨by rw [bs_len]; omega, by unfold maxLen; omega, fun _ => ⟨_, rfl, by simp⟩, fun _ => .inr ⟨_, rfl⟩, fun a ha j u hu => ?_⟩
  injection ha with e
  subst e
  have hadd : (⟨w.heap.size, 0, none⟩ : Addr).add j = ⟨w.heap.size, j, none⟩ := by unfold Addr.add; split <;> simp_all
  rw [hadd, World.cell?_alloc_mark]
  simpa using hu

set_option maxRecDepth 100000 in
theorem awake_9 {rep : Nat → Nat} (H : SumOk rep) (w : World) : Calls Try.prog 11 #[] w fun e w' => e = .returned (.bool true) ∧ Up w w' := by
  have hcv := fun (w : World) (C : Array Value) (n c : Nat) => Lib.run_convert_bytes_const (P := Try.prog) w 22 5 C n c uBe uE
  have c1 := H.of (some ⟨w.heap.size, 0, none⟩) 9 9 [49, 50, 51, 52, 53, 54, 55, 56, 57] (w.alloc (.cells (bs [49, 50, 51, 52, 53, 54, 55, 56, 57]).toArray 5 (9, 10))) (rd_mark w [49, 50, 51, 52, 53, 54, 55, 56, 57] 9 _ rfl (by omega)) rfl
  have c2 := Lib.hid H.start
  have c3 := Lib.hid (fun w => H.add (some ⟨w.heap.size, 0, none⟩) 4 4 0 [49, 50, 51, 52] (w.alloc (.cells (bs [49, 50, 51, 52]).toArray 5 (4, 5))) (by decide) (rd_mark w [49, 50, 51, 52] 4 _ rfl (by omega)) rfl)
  have h1 : crcOn 0 [49, 50, 51, 52] < 4294967296 := crcOn_lt (by decide) _
  have c4 := fun w => H.add (some ⟨w.heap.size, 0, none⟩) 5 5 (crcOn 0 [49, 50, 51, 52]) [53, 54, 55, 56, 57] (w.alloc (.cells (bs [53, 54, 55, 56, 57]).toArray 5 (5, 6))) h1 (rd_mark w [53, 54, 55, 56, 57] 5 _ rfl (by omega)) rfl
  have c5 := Lib.hid (fun w => H.value 3421780262 w (by decide))
  rw [crc_digits] at c1
  rw [crc_cut] at c4
  have C1 := Lib.hid c1
  have C4 := Lib.hid c4
  clear H c1 c4 h1
  generalize crcOn 0 [49, 50, 51, 52] = x at *
  generalize rep 0 = r0 at *
  generalize rep x = r1 at *
  generalize rep 3421780262 = r2 at *
  go_enter Try.func11, Try.ntmps11
  go_wp2_with fail
  refine C1.out.mono ?_
  rintro e w1 ⟨rfl, hu1⟩
  have hu01 := ((Up.refl w).alloc _).trans hu1
  clear C1 hu1
  go_wp2_with fail
  refine (c2.out w1).mono ?_
  rintro e w2 ⟨rfl, hu2⟩
  have hu02 := hu01.trans hu2
  clear c2 hu2 hu01
  go_wp2_with fail
  refine (c3.out w2).mono ?_
  rintro e w3 ⟨rfl, hu3⟩
  have hu03 := hu02.trans (((Up.refl w2).alloc _).trans hu3)
  clear c3 hu3 hu02
  go_wp2_with fail
  refine (C4.out w3).mono ?_
  rintro e w4 ⟨rfl, hu4⟩
  have hu04 := hu03.trans (((Up.refl w3).alloc _).trans hu4)
  clear C4 hu4 hu03
  go_wp2_with fail
  refine (c5.out w4).mono ?_
  rintro e w5 ⟨rfl, hu5⟩
  go_wp2_with fail
  go_ret
  exact ⟨rfl, hu04.trans hu5⟩

end Go.Proofs.Ythgjjlllifcegaa
