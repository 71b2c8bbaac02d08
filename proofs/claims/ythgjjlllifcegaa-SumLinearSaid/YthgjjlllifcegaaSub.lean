/- The sum: the document's, walked. -/
import Derived.Test.YthgjjlllifcegaaBytes
import Derived.Test.YthgjjlllifcegaaSua
namespace Go.Proofs.Ythgjjlllifcegaa
open Go.RowKit

theorem xor_ones (a : Nat) (ha : a < 4294967296) : bits .xor .u32 (a : Int) 4294967295 = ((a ^^^ 4294967295 : Nat) : Int) := bits_xor32 a 4294967295 ha (by decide)
theorem xor_poly (a : Nat) (ha : a < 4294967296) : bits .xor .u32 ((a : Int) / 2) 3988292384 = ((a / 2 ^^^ 3988292384 : Nat) : Int) := by
  have := bits_xor32 (a / 2) 3988292384 (by omega) (by decide)
  rwa [show (((a / 2 : Nat) : Int)) = (a : Int) / 2 from by omega] at this

set_option maxRecDepth 100000 in
theorem on_ref0 (A : Option Addr) (n d : Nat) (v : Nat) (hv : v < 4294967296) (l : List UInt8) (w : World) (h : Rd w A d (bs l)) (hn : n = l.length) :
    Calls Try.prog 16 #[.int .u32 (v : Int), .slice A n d] w fun e w' => e = .returned (.int .u32 (crcOn v l : Int)) ∧ w' = w := by
  have hf := h.fit
  have hmx := h.max
  rw [bs_len] at hf
  unfold maxLen at hmx
  have hfn : n ≤ d := by omega
  have hmn : d ≤ 9223372036854775807 := by omega
  have Hn := Lib.hid hn
  have H := Lib.hid h
  have hres : Hid (crcOn v l = crw (v ^^^ 4294967295) l ^^^ 4294967295) := Lib.hid rfl
  have hv2 : v ^^^ 4294967295 < 4294967296 := xor_lt hv (by decide)
  have he := xor_ones v hv
  have HT := Lib.hid (fun k (h : k < l.length) => crw_snoc (v ^^^ 4294967295) l k h)
  have HL := Lib.hid (fun k => crw_lt hv2 (l.take k))
  have H0 := Lib.hid (show crw (v ^^^ 4294967295) (l.take 0) = v ^^^ 4294967295 from rfl)
  have H1 := Lib.hid (show n ≤ n → crw (v ^^^ 4294967295) (l.take n) = crw (v ^^^ 4294967295) l from fun _ => by rw [hn, List.take_length])
  clear h hn hf hmx hv
  generalize crcOn v l = R at *
  generalize v ^^^ 4294967295 = v0 at *
  go_enter Try.func16, Try.ntmps16
  go_wp2_with fail
  clear he
  go_loopw [5, 6] (fun x i wr => ∃ k : Nat, k ≤ n ∧ i = .int .i64 (k : Int) ∧ x = .int .u32 (crw v0 (l.take k) : Int) ∧ Hid (wr = w)) (fun _ i _ => n - (intOf i).toNat)
  case atStart => exact ⟨0, Nat.zero_le _, rfl, by rw [H0.out], Lib.hid rfl⟩
  case round =>
    obtain ⟨k, hk, rfl, rfl, hu⟩ := hrel
    have hX := HL.out k
    by_cases hlt : k < n
    · have hkl : k < l.length := by rw [← Hn.out]; exact hlt
      have hstep := Lib.hid (HT.out k hkl)
      obtain ⟨a, rfl, _⟩ := H.out.ad (by omega)
      have hcell : wr.cell? (a.add k) = some (.int .u8 (l[k].toNat : Int)) := (hu.out.symm ▸ H.out : Rd wr (some a) d (bs l)).cell a rfl k _ (bs_get l k hkl)
      have hb := byte_lt l[k]
      have hY : crw v0 (l.take k) ^^^ l[k].toNat < 4294967296 := xor_lt hX hb
      have hxb := bits_xor32 (crw v0 (l.take k)) l[k].toNat hX hb
      have hfin : Hid (crw v0 (l.take (k + 1)) = cit 8 (crw v0 (l.take k) ^^^ l[k].toNat)) := Lib.hid hstep.out
      clear hstep HT HL H0 H1 hX
      generalize crw v0 (l.take k) = X at *
      generalize l[k].toNat = b at *
      generalize X ^^^ b = Y at *
      go_wp2_with fail
      have HS := Lib.hid (fun j => show cit (j + 1) Y = cst (cit j Y) from rfl)
      have HZ := Lib.hid (fun j => cit_lt hY j)
      have H00 : Hid (cit 0 Y = Y) := Lib.hid rfl
      clear hcell hb hxb hY
      rename World => wo
      go_loopw [5, 7] (fun x i wr => ∃ j : Nat, j ≤ 8 ∧ i = .int .i64 (j : Int) ∧ x = .int .u32 (cit j Y : Int) ∧ Hid (wr = w)) (fun _ i _ => 8 - (intOf i).toNat)
      case atStart => exact ⟨0, by omega, rfl, by rw [H00.out], hu⟩
      case round =>
        obtain ⟨j, hj, rfl, rfl, hux⟩ := hrel
        by_cases hjl : j < 8
        · have hst := Lib.hid (HS.out j)
          have hZ := HZ.out j
          clear hfin HS HZ H00 hu
          generalize cit j Y = Z at *
          have hxp := xor_poly Z hZ
          by_cases ho : Z % 2 = 1
          · have hob : ((Z : Int) % 2 == 1) = true := by simp; omega
            have hz2 : Hid (Z / 2 ^^^ 3988292384 = cit (j + 1) Y) := Lib.hid (by rw [hst.out]; unfold cst; rw [if_pos ho])
            clear hst ho
            go_wp2_with fail
            go_roundw
            case rel => exact ⟨j + 1, by omega, by go_num, by rw [hz2.out], hux⟩
            case measure => simp [intOf]; omega
          · have hob : ((Z : Int) % 2 == 1) = false := by simp; omega
            have hz2 : Hid (Z / 2 = cit (j + 1) Y) := Lib.hid (by rw [hst.out]; unfold cst; rw [if_neg ho])
            clear hst ho hxp
            go_wp2_with fail
            go_roundw
            case rel => exact ⟨j + 1, by omega, by go_num, by rw [← hz2.out]; go_num, hux⟩
            case measure => simp [intOf]; omega
        · obtain rfl : j = 8 := by omega
          have hfo := hfin.out
          rw [← hfo]
          have HFo := Lib.hid hfo
          clear hfin hfo HS HZ H00 hu
          go_wp2_with fail
          go_roundw
          case rel => exact ⟨k + 1, by omega, by go_num, rfl, hux⟩
          case measure => simp [intOf]; omega
    · obtain rfl : k = n := by omega
      have hXe := H1.out (Nat.le_refl _)
      rw [hXe] at hX ⊢
      have hxo := xor_ones _ hX
      have hr := hres.out
      clear HT HL H0 H1 hXe
      generalize crw v0 l = X at *
      go_wp2_with fail
      go_ret
      exact ⟨by rw [hr]; rfl, hu.out⟩

theorem on_ref (A : Option Addr) (n d : Nat) (v : Nat) (hv : v < 4294967296) (l : List UInt8) (w : World) (h : Rd w A d (bs l)) (hn : n = l.length) :
    Calls Try.prog 16 #[.int .u32 (v : Int), .slice A n d] w fun e w' => e = .returned (.int .u32 (crcOn v l : Int)) ∧ Up w w' :=
  (on_ref0 A n d v hv l w h hn).mono fun _ _ h => ⟨h.1, h.2 ▸ Up.refl w⟩

theorem sum_of_ref (A : Option Addr) (n d : Nat) (l : List UInt8) (w : World) (h : Rd w A d (bs l)) (hn : n = l.length) :
    Calls Try.prog 10 #[.slice A n d] w fun e w' => e = .returned (.int .u32 (crcOf l : Int)) ∧ Up w w' := by
  have c0 := on_ref A n d 0 (by decide) l w h hn
  rw [show crcOn 0 l = crcOf l from rfl] at c0
  have c := Lib.hid c0
  clear c0 h hn
  generalize crcOf l = R at *
  go_enter Try.func10, Try.ntmps10
  go_wp2_with fail
  refine c.out.mono ?_
  rintro e w1 ⟨rfl, hu⟩
  go_wp2_with fail
  go_ret
  exact ⟨rfl, hu⟩

end Go.Proofs.Ythgjjlllifcegaa
