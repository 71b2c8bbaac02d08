/- The program's sum does what is asked: bit by bit, each byte handed to a method that is handed on as a value. -/
import Derived.Test.YthgjjlllifcegaaSuc
import Derived.Shelf.Abstract
namespace Go.Proofs.Ythgjjlllifcegaa
open Go.RowKit

theorem turned_code (v : Nat) (w : World) (hv : v < 4294967296) : Calls Try.prog 18 #[.int .u32 (v : Int)] w fun e w' => e = .returned (.int .u32 ((v ^^^ 4294967295 : Nat) : Int)) ∧ Up w w' := by
  have he : bits .xor .u32 IntKind.u32.max (v : Int) = ((v ^^^ 4294967295 : Nat) : Int) := by
    rw [Nat.xor_comm]
    exact bits_xor32 4294967295 v (by decide) hv
  go_enter Try.func18, Try.ntmps18
  go_wp2_with fail
  go_ret
  exact ⟨rfl, Up.refl _⟩

set_option maxRecDepth 100000 in
theorem next_code (x : Nat) (c : UInt8) (w : World) (hx : x < 4294967296) :
    Calls Try.prog 19 #[.int .u32 (x : Int), .int .u8 (c.toNat : Int)] w fun e w' => e = .returned (.int .u32 (cby x c : Int)) ∧ Up w w' := by
  have hb := byte_lt c
  have hY : x ^^^ c.toNat < 4294967296 := xor_lt hx hb
  have hxb := bits_xor32 x c.toNat hx hb
  have hR : Hid (cit 8 (x ^^^ c.toNat) = cby x c) := Lib.hid rfl
  generalize cby x c = R at *
  generalize c.toNat = b at *
  generalize x ^^^ b = Y at *
  go_enter Try.func19, Try.ntmps19
  go_wp2_with fail
  have HS := Lib.hid (fun j => show cit (j + 1) Y = cst (cit j Y) from rfl)
  have HZ := Lib.hid (fun j => cit_lt hY j)
  have H00 : Hid (cit 0 Y = Y) := Lib.hid rfl
  clear hb hxb hY hx
  go_loopw [0, 9] (fun y i wr => ∃ j : Nat, j ≤ 8 ∧ i = .int .i64 (j : Int) ∧ y = .int .u32 (cit j Y : Int) ∧ Up w wr) (fun _ i _ => 8 - (intOf i).toNat)
  case atStart => exact ⟨0, by omega, rfl, by rw [H00.out], Up.refl _⟩
  case round =>
    obtain ⟨j, hj, rfl, rfl, hux⟩ := hrel
    by_cases hjl : j < 8
    · have hst := Lib.hid (HS.out j)
      have hZ := HZ.out j
      clear hR HS HZ H00
      generalize cit j Y = Z at *
      have han := bits_and_one Z hZ
      by_cases ho : Z % 2 = 1
      · have hxp := xor_poly Z hZ
        rw [ho] at han
        have hz2 : Hid (Z / 2 ^^^ 3988292384 = cit (j + 1) Y) := Lib.hid (by rw [hst.out]; unfold cst; rw [if_pos ho])
        clear hst ho
        go_wp2_with fail
        go_roundw
        case rel => exact ⟨j + 1, by omega, by go_num, by rw [hz2.out], hux⟩
        case measure => simp [intOf]; omega
      · have ho2 : Z % 2 = 0 := by omega
        have hxp := bits_xor32 (Z / 2) 0 (by omega) (by decide)
        rw [Nat.xor_zero, show (((Z / 2 : Nat) : Int)) = (Z : Int) / 2 from by omega] at hxp
        rw [ho2] at han
        have hz2 : Hid (Z / 2 = cit (j + 1) Y) := Lib.hid (by rw [hst.out]; unfold cst; rw [if_neg ho])
        clear hst ho ho2
        go_wp2_with fail
        go_roundw
        case rel => exact ⟨j + 1, by omega, by go_num, by rw [← hz2.out]; go_num, hux⟩
        case measure => simp [intOf]; omega
    · obtain rfl : j = 8 := by omega
      have hfo := hR.out
      rw [hfo]
      clear hR hfo HS HZ H00
      go_wp2_with fail
      go_ret
      exact ⟨rfl, hux⟩

set_option maxRecDepth 100000 in
theorem over_code (A : Option Addr) (n d x : Nat) (l : List UInt8) (w : World) (hx : x < 4294967296) (h : Rd w A d (bs l)) (hn : n = l.length) :
    Calls Try.prog 17 #[.int .u32 (x : Int), .slice A n d, .func (.func 19) #[] #[]] w fun e w' => e = .returned (.int .u32 (crw x l : Int)) ∧ Up w w' := by
  have hf := h.fit
  have hmx := h.max
  rw [bs_len] at hf
  unfold maxLen at hmx
  have hmn : d ≤ 9223372036854775807 := by omega
  have hfn : n ≤ d := by omega
  have Hn := Lib.hid hn
  have H := Lib.hid h
  have HT := Lib.hid (fun k (h : k < l.length) => crw_snoc x l k h)
  have HL := Lib.hid (fun k => crw_lt hx (l.take k))
  have H0 := Lib.hid (show crw x (l.take 0) = x from rfl)
  have H1 := Lib.hid (show n ≤ n → crw x (l.take n) = crw x l from fun _ => by rw [hn, List.take_length])
  have C := Lib.hid next_code
  have E := Lib.hid (enters_of Try.func19 (by kernel_rfl) rfl)
  clear h hn hf hmx hx
  generalize crw x l = R at *
  go_enter Try.func17, Try.ntmps17
  go_wp2_with fail
  go_loopw [0, 11] (fun y i wr => ∃ k : Nat, k ≤ n ∧ i = .int .i64 (k : Int) ∧ y = .int .u32 (crw x (l.take k) : Int) ∧ Up w wr) (fun _ i _ => n - (intOf i).toNat)
  case atStart => exact ⟨0, Nat.zero_le _, rfl, by rw [H0.out], Up.refl w⟩
  case round =>
    obtain ⟨k, hk, rfl, rfl, hu⟩ := hrel
    have hX := HL.out k
    by_cases hlt : k < n
    · have hkl : k < l.length := by rw [← Hn.out]; exact hlt
      have hstep := Lib.hid (HT.out k hkl)
      obtain ⟨a, rfl, _⟩ := H.out.ad (by omega)
      have hcell : wr.cell? (a.add k) = some (.int .u8 (l[k].toNat : Int)) := (H.out.up hu).cell a rfl k _ (bs_get l k hkl)
      have HC := Lib.hid (fun w' => C.out (crw x (l.take k)) l[k] w' hX)
      have ev := E.out
      clear HT HL H0 H1 hX C E
      generalize crw x (l.take k) = X at *
      generalize l[k] = b at *
      go_wp2_with fail
      refine (HC.out _).mono ?_
      rintro e w2 ⟨rfl, hu2⟩
      go_wp2_with fail
      go_roundw
      case rel => exact ⟨k + 1, by omega, by go_num, by rw [hstep.out], hu.trans hu2⟩
      case measure => simp [intOf]; omega
    · obtain rfl : k = n := by omega
      have hXe := H1.out (Nat.le_refl _)
      rw [hXe]
      clear HT HL H0 H1 hXe hX C E
      go_wp2_with fail
      go_ret
      exact ⟨rfl, hu⟩

theorem add_code (A : Option Addr) (n d v : Nat) (l : List UInt8) (w : World) (hv : v < 4294967296) (h : Rd w A d (bs l)) (hn : n = l.length) :
    Calls Try.prog 15 #[.int .u32 (v : Int), .slice A n d] w fun e w' => e = .returned (.int .u32 (crcOn v l : Int)) ∧ Up w w' := by
  have hv2 : v ^^^ 4294967295 < 4294967296 := xor_lt hv (by decide)
  have c1 := Lib.hid (fun w' => turned_code v w' hv)
  have c2 := Lib.hid (fun w' (u : Up w w') => over_code A n d (v ^^^ 4294967295) l w' hv2 (h.up u) hn)
  have c3 := Lib.hid (fun w' => turned_code (crw (v ^^^ 4294967295) l) w' (crw_lt hv2 l))
  have hres : Hid (crw (v ^^^ 4294967295) l ^^^ 4294967295 = crcOn v l) := Lib.hid rfl
  clear h hn hv hv2
  generalize crcOn v l = R at *
  generalize crw (v ^^^ 4294967295) l = X at *
  generalize v ^^^ 4294967295 = v0 at *
  rw [hres.out] at c3
  go_enter Try.func15, Try.ntmps15
  go_wp2_with fail
  refine (c1.out _).mono ?_
  rintro e w1 ⟨rfl, hu1⟩
  go_wp2_with fail
  refine (c2.out _ hu1).mono ?_
  rintro e w2 ⟨rfl, hu2⟩
  go_wp2_with fail
  refine (c3.out _).mono ?_
  rintro e w3 ⟨rfl, hu3⟩
  go_wp2_with fail
  go_ret
  exact ⟨rfl, (hu1.trans hu2).trans hu3⟩

theorem start_code (w : World) : Calls Try.prog 14 #[] w fun e w' => e = .returned (.int .u32 0) ∧ Up w w' := by
  go_enter Try.func14, Try.ntmps14
  go_wp2_with fail
  go_ret
  exact ⟨rfl, Up.refl _⟩
theorem value_code (v : Int) (w : World) : Calls Try.prog 13 #[.int .u32 v] w fun e w' => e = .returned (.int .u32 v) ∧ Up w w' := by
  go_enter Try.func13, Try.ntmps13
  go_wp2_with fail
  go_ret
  exact ⟨rfl, Up.refl _⟩
theorem from_code (v : Int) (w : World) : Calls Try.prog 12 #[.int .u32 v] w fun e w' => e = .returned (.int .u32 v) ∧ Up w w' := by
  go_enter Try.func12, Try.ntmps12
  go_wp2_with fail
  go_ret
  exact ⟨rfl, Up.refl _⟩
theorem of_code (A : Option Addr) (n d : Nat) (l : List UInt8) (w : World) (h : Rd w A d (bs l)) (hn : n = l.length) :
    Calls Try.prog 9 #[.slice A n d] w fun e w' => e = .returned (.int .u32 (crcOf l : Int)) ∧ Up w w' := by
  have c1 := fun w' (u : Up w w') => add_code A n d 0 l w' (by decide) (h.up u) hn
  rw [show crcOn 0 l = crcOf l from rfl] at c1
  have C1 := Lib.hid c1
  have c2 := Lib.hid start_code
  have c3 := Lib.hid value_code
  clear c1 h hn
  generalize crcOf l = R at *
  go_enter Try.func9, Try.ntmps9
  go_wp2_with fail
  refine (c2.out _).mono ?_
  rintro e w1 ⟨rfl, hu1⟩
  go_wp2_with fail
  refine (C1.out _ hu1).mono ?_
  rintro e w2 ⟨rfl, hu2⟩
  go_wp2_with fail
  refine (c3.out _ _).mono ?_
  rintro e w3 ⟨rfl, hu3⟩
  go_wp2_with fail
  go_ret
  exact ⟨rfl, (hu1.trans hu2).trans hu3⟩

theorem sum_ok : SumOk (fun v => v) := ⟨of_code, fun w => start_code w, fun A n d v l w hv h hn => add_code A n d v l w hv h hn, fun _ w _ => value_code _ w, fun _ w _ => from_code _ w⟩

end Go.Proofs.Ythgjjlllifcegaa
