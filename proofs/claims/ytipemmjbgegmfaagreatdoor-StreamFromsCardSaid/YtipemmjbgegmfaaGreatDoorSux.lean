/- Sux: one text of Sua Sub Suc Rws Suk. -/
import Derived.Laws.Entries
import Derived.Laws.Bits64
import Derived.Test.YtipemmjbgegmfaaGreatDoorCdx
import Derived.Lib.SlBytesConst
import Derived.Test.YtipemmjbgegmfaaGreatDoorBas
import Derived.Shelf.Abstract

/- The sum of 32 bits, as the document defines it, on numbers: it is linear, and no byte is lost in it. -/
namespace Go.Proofs.YtipemmjbgegmfaaGreatDoor
open Go

def cst (x : Nat) : Nat := if x % 2 = 1 then x / 2 ^^^ 3988292384 else x / 2
def cit : Nat → Nat → Nat
  | 0, x => x
  | k + 1, x => cst (cit k x)
def cby (x : Nat) (b : UInt8) : Nat := cit 8 (x ^^^ b.toNat)
def crw (x : Nat) (l : List UInt8) : Nat := l.foldl cby x
def crcOn (v : Nat) (l : List UInt8) : Nat := crw (v ^^^ 4294967295) l ^^^ 4294967295
def crcOf (l : List UInt8) : Nat := crcOn 0 l

theorem xor_lt {a b : Nat} (ha : a < 4294967296) (hb : b < 4294967296) : a ^^^ b < 4294967296 := Nat.xor_lt_two_pow (n := 32) ha hb
theorem cst_lt {x : Nat} (h : x < 4294967296) : cst x < 4294967296 := by
  unfold cst
  split
  · exact xor_lt (by omega) (by decide)
  · omega
theorem cit_lt {x : Nat} (h : x < 4294967296) : ∀ k, cit k x < 4294967296
  | 0 => h
  | k + 1 => cst_lt (cit_lt h k)
theorem byte_lt (b : UInt8) : b.toNat < 4294967296 := Nat.lt_trans b.toNat_lt (by decide)
theorem cby_lt {x : Nat} (h : x < 4294967296) (b : UInt8) : cby x b < 4294967296 := cit_lt (xor_lt h (byte_lt b)) 8
theorem crw_lt {x : Nat} (h : x < 4294967296) (l : List UInt8) : crw x l < 4294967296 := by
  induction l generalizing x with
  | nil => exact h
  | cons b l ih => exact ih (cby_lt h b)
theorem crcOn_lt {v : Nat} (h : v < 4294967296) (l : List UInt8) : crcOn v l < 4294967296 := xor_lt (crw_lt (xor_lt h (by decide)) l) (by decide)
theorem crcOf_lt (l : List UInt8) : crcOf l < 4294967296 := crcOn_lt (by decide) l

theorem xor_back (a b : Nat) : a ^^^ b ^^^ b = a := by rw [Nat.xor_assoc, Nat.xor_self, Nat.xor_zero]
theorem crw_append (x : Nat) (a b : List UInt8) : crw x (a ++ b) = crw (crw x a) b := List.foldl_append
theorem crcOn_append (v : Nat) (a b : List UInt8) : crcOn v (a ++ b) = crcOn (crcOn v a) b := by
  unfold crcOn
  rw [crw_append, xor_back]
theorem crcOf_append (a b : List UInt8) : crcOf (a ++ b) = crcOn (crcOf a) b := crcOn_append 0 a b
theorem crcOn_nil (v : Nat) : crcOn v [] = v := xor_back v _
theorem crw_snoc (x : Nat) (l : List UInt8) (k : Nat) (h : k < l.length) : crw x (l.take (k + 1)) = cby (crw x (l.take k)) l[k] := by
  rw [List.take_succ_eq_append_getElem h, crw_append]; rfl

/-! ### Linear -/
theorem half_xor (a b : Nat) : (a ^^^ b) / 2 = a / 2 ^^^ b / 2 := by
  have := Nat.shiftRight_xor_distrib (a := a) (b := b) (i := 1)
  simpa [Nat.shiftRight_eq_div_pow] using this
theorem odd_xor (a b : Nat) : (a ^^^ b) % 2 = (a % 2 + b % 2) % 2 := by
  have h := Nat.testBit_xor (x := a) (y := b) (i := 0)
  simp only [Nat.testBit_zero] at h
  rcases Nat.mod_two_eq_zero_or_one a with h1 | h1 <;> rcases Nat.mod_two_eq_zero_or_one b with h2 | h2 <;> rw [h1, h2] at h ⊢ <;> rcases Nat.mod_two_eq_zero_or_one (a ^^^ b) with h3 | h3 <;> rw [h3] at h ⊢ <;> revert h <;> decide
theorem cst_xor (a b : Nat) : cst (a ^^^ b) = cst a ^^^ cst b := by
  unfold cst
  rw [odd_xor, half_xor]
  rcases Nat.mod_two_eq_zero_or_one a with h1 | h1 <;> rcases Nat.mod_two_eq_zero_or_one b with h2 | h2 <;> simp only [h1, h2] <;> simp
  · ac_rfl
  · ac_rfl
  · rw [show a / 2 ^^^ 3988292384 ^^^ (b / 2 ^^^ 3988292384) = (a / 2 ^^^ b / 2) ^^^ (3988292384 ^^^ 3988292384) from by ac_rfl, Nat.xor_self, Nat.xor_zero]
theorem cit_xor (a b : Nat) : ∀ k, cit k (a ^^^ b) = cit k a ^^^ cit k b
  | 0 => rfl
  | k + 1 => by unfold cit; rw [cit_xor a b k, cst_xor]

/-! ### No byte is lost -/
theorem cst_zero {z : Nat} (h : z < 4294967296) (hz : cst z = 0) : z = 0 := by
  unfold cst at hz
  split at hz
  · have : z / 2 = 3988292384 := by
      have := congrArg (· ^^^ 3988292384) hz
      simp only [xor_back, Nat.zero_xor] at this
      exact this
    omega
  · omega
theorem cit_zero {z : Nat} (h : z < 4294967296) : ∀ k, cit k z = 0 → z = 0
  | 0, hz => hz
  | k + 1, hz => cit_zero h k (cst_zero (cit_lt h k) hz)
theorem xor_eq {a b : Nat} (h : a ^^^ b = 0) : a = b := by
  have := congrArg (· ^^^ b) h
  simpa [xor_back] using this
theorem cit_inj {a b : Nat} (ha : a < 4294967296) (hb : b < 4294967296) (k : Nat) (h : cit k a = cit k b) : a = b :=
  xor_eq (cit_zero (xor_lt ha hb) k (by rw [cit_xor, h, Nat.xor_self]))
theorem xor_right {a b c : Nat} (h : a ^^^ c = b ^^^ c) : a = b := by
  have := congrArg (· ^^^ c) h
  simpa [xor_back] using this
theorem xor_left {a b c : Nat} (h : c ^^^ a = c ^^^ b) : a = b := xor_right (c := c) (by rw [Nat.xor_comm a, Nat.xor_comm b]; exact h)
theorem cby_inj {x y : Nat} (hx : x < 4294967296) (hy : y < 4294967296) (b : UInt8) (h : cby x b = cby y b) : x = y :=
  xor_right (cit_inj (xor_lt hx (byte_lt b)) (xor_lt hy (byte_lt b)) 8 h)
theorem cby_byte {x : Nat} (hx : x < 4294967296) {b c : UInt8} (h : cby x b = cby x c) : b = c :=
  UInt8.toNat_inj.1 (xor_left (cit_inj (xor_lt hx (byte_lt b)) (xor_lt hx (byte_lt c)) 8 h))
theorem crw_inj (l : List UInt8) {x y : Nat} (hx : x < 4294967296) (hy : y < 4294967296) (h : crw x l = crw y l) : x = y := by
  induction l generalizing x y with
  | nil => exact h
  | cons b l ih => exact cby_inj hx hy b (ih (cby_lt hx b) (cby_lt hy b) h)
/-- A byte that is changed changes the sum. -/
theorem crc_turned (P Q : List UInt8) (b c : UInt8) (h : crcOf (P ++ b :: Q) = crcOf (P ++ c :: Q)) : b = c := by
  have h := xor_right (c := 4294967295) h
  rw [crw_append, crw_append] at h
  have hP : crw (0 ^^^ 4294967295) P < 4294967296 := crw_lt (by decide) P
  exact cby_byte hP (crw_inj Q (cby_lt hP b) (cby_lt hP c) h)

/-! ### By a table of 256 numbers -/
theorem cit_first : ∀ (k x : Nat), cit (k + 1) x = cit k (cst x)
  | 0, _ => rfl
  | k + 1, x => by
    show cst (cit (k + 1) x) = cst (cit k (cst x))
    rw [cit_first k x]
theorem cst_even (z : Nat) : cst (z * 2) = z := by
  unfold cst
  rw [if_neg (by omega)]
  omega
theorem cit_high (y : Nat) : cit 8 (y * 256) = y := by
  rw [show y * 256 = y * 128 * 2 by omega, cit_first, cst_even, show y * 128 = y * 64 * 2 by omega, cit_first, cst_even, show y * 64 = y * 32 * 2 by omega, cit_first, cst_even,
    show y * 32 = y * 16 * 2 by omega, cit_first, cst_even, show y * 16 = y * 8 * 2 by omega, cit_first, cst_even, show y * 8 = y * 4 * 2 by omega, cit_first, cst_even,
    show y * 4 = y * 2 * 2 by omega, cit_first, cst_even, cit_first, cst_even]
  rfl
theorem xor_split (x : Nat) : x / 256 * 256 ^^^ x % 256 = x := by
  have h1 : (x / 256 * 256 ^^^ x % 256) / 2 ^ 8 = x / 256 * 256 / 2 ^ 8 ^^^ x % 256 / 2 ^ 8 := by
    have := Nat.shiftRight_xor_distrib (a := x / 256 * 256) (b := x % 256) (i := 8)
    simpa [Nat.shiftRight_eq_div_pow] using this
  have h2 : (x / 256 * 256 ^^^ x % 256) % 2 ^ 8 = x / 256 * 256 % 2 ^ 8 ^^^ x % 256 % 2 ^ 8 := Nat.xor_mod_two_pow
  have e1 : x / 256 * 256 / 2 ^ 8 = x / 256 := by omega
  have e2 : x % 256 / 2 ^ 8 = 0 := by omega
  have e3 : x / 256 * 256 % 2 ^ 8 = 0 := by omega
  have e4 : x % 256 % 2 ^ 8 = x % 256 := by omega
  rw [e1, e2, Nat.xor_zero] at h1
  rw [e3, e4, Nat.zero_xor] at h2
  omega
/-- What a table tells: a byte's step. -/
theorem cit_table (x : Nat) : cit 8 x = x / 256 ^^^ cit 8 (x % 256) := by
  have := cit_xor (x / 256 * 256) (x % 256) 8
  rw [xor_split, cit_high] at this
  exact this
theorem cby_table (x : Nat) (b : UInt8) : cby x b = x / 256 ^^^ cit 8 ((x ^^^ b.toNat) % 256) := by
  unfold cby
  rw [cit_table]
  congr 1
  have h1 : (x ^^^ b.toNat) / 2 ^ 8 = x / 2 ^ 8 ^^^ b.toNat / 2 ^ 8 := by
    have := Nat.shiftRight_xor_distrib (a := x) (b := b.toNat) (i := 8)
    simpa [Nat.shiftRight_eq_div_pow] using this
  have hb := b.toNat_lt
  have e : b.toNat / 2 ^ 8 = 0 := by omega
  rw [e, Nat.xor_zero] at h1
  exact h1

/-- Three texts of one length. -/
def xor3 : List UInt8 → List UInt8 → List UInt8 → List UInt8
  | a :: l, b :: m, c :: n => (a ^^^ b ^^^ c) :: xor3 l m n
  | _, _, _ => []
theorem crw_xor3 : ∀ (l m n : List UInt8) (x y z : Nat), l.length = m.length → l.length = n.length → crw (x ^^^ y ^^^ z) (xor3 l m n) = crw x l ^^^ crw y m ^^^ crw z n
  | [], [], [], _, _, _, _, _ => rfl
  | a :: l, b :: m, c :: n, x, y, z, h1, h2 => by
    have e : cby (x ^^^ y ^^^ z) (a ^^^ b ^^^ c) = cby x a ^^^ cby y b ^^^ cby z c := by
      unfold cby
      rw [UInt8.toNat_xor, UInt8.toNat_xor, ← cit_xor, ← cit_xor]
      congr 1
      ac_rfl
    show crw (cby (x ^^^ y ^^^ z) (a ^^^ b ^^^ c)) (xor3 l m n) = crw (cby x a) l ^^^ crw (cby y b) m ^^^ crw (cby z c) n
    rw [e]
    exact crw_xor3 l m n _ _ _ (by simpa using h1) (by simpa using h2)
  | [], _ :: _, _, _, _, _, h, _ => by simp at h
  | [], [], _ :: _, _, _, _, _, h => by simp at h
  | _ :: _, [], _, _, _, _, h, _ => by simp at h
  | _ :: _, _ :: _, [], _, _, _, _, h => by simp at h
theorem crc_xor3 (l m n : List UInt8) (h1 : l.length = m.length) (h2 : l.length = n.length) : crcOf l ^^^ crcOf m ^^^ crcOf n = crcOf (xor3 l m n) := by
  have := crw_xor3 l m n (0 ^^^ 4294967295) (0 ^^^ 4294967295) (0 ^^^ 4294967295) h1 h2
  have e : (0 ^^^ 4294967295 : Nat) ^^^ (0 ^^^ 4294967295) ^^^ (0 ^^^ 4294967295) = 0 ^^^ 4294967295 := by decide
  rw [e] at this
  unfold crcOf crcOn
  rw [this]
  generalize crw (0 ^^^ 4294967295) l = A
  generalize crw (0 ^^^ 4294967295) m = B
  generalize crw (0 ^^^ 4294967295) n = C
  rw [show A ^^^ 4294967295 ^^^ (B ^^^ 4294967295) ^^^ (C ^^^ 4294967295) = (A ^^^ B ^^^ C ^^^ 4294967295) ^^^ (4294967295 ^^^ 4294967295) from by ac_rfl, Nat.xor_self, Nat.xor_zero]

/-! ### How the walk writes it -/
theorem bits_xor32 (a b : Nat) (ha : a < 4294967296) (hb : b < 4294967296) : bits .xor .u32 (a : Int) (b : Int) = ((a ^^^ b : Nat) : Int) := by
  have hx : a ^^^ b < 4294967296 := xor_lt ha hb
  have h1 : (BitVec.ofInt 32 (a : Int)).toNat = a := by
    rw [BitVec.ofInt_natCast, BitVec.toNat_ofNat]; exact Nat.mod_eq_of_lt (by omega)
  have h2 : (BitVec.ofInt 32 (b : Int)).toNat = b := by
    rw [BitVec.ofInt_natCast, BitVec.toNat_ofNat]; exact Nat.mod_eq_of_lt (by omega)
  show IntKind.u32.wrap ((BitVec.ofInt 32 (a : Int) ^^^ BitVec.ofInt 32 (b : Int)).toNat : Int) = _
  rw [BitVec.toNat_xor, h1, h2]
  simp [IntKind.wrap, IntKind.bits, IntKind.signed]
  omega
theorem bits_and_one (a : Nat) (ha : a < 4294967296) : bits .and .u32 (a : Int) 1 = ((a % 2 : Nat) : Int) := by
  have h1 : (BitVec.ofInt 32 (a : Int)).toNat = a := by
    rw [BitVec.ofInt_natCast, BitVec.toNat_ofNat]; exact Nat.mod_eq_of_lt (by omega)
  have h2 : (BitVec.ofInt 32 1).toNat = 1 := by decide
  show IntKind.u32.wrap ((BitVec.ofInt 32 (a : Int) &&& BitVec.ofInt 32 1).toNat : Int) = _
  rw [BitVec.toNat_and, h1, h2, Nat.and_one_is_mod]
  simp [IntKind.wrap, IntKind.bits, IntKind.signed]
  omega
theorem bits_xor8 (a b : UInt8) : bits .xor .u8 (a.toNat : Int) (b.toNat : Int) = ((a ^^^ b).toNat : Int) := by
  have h1 : (BitVec.ofInt 8 (a.toNat : Int)).toNat = a.toNat := by
    rw [BitVec.ofInt_natCast, BitVec.toNat_ofNat]; exact Nat.mod_eq_of_lt a.toNat_lt
  have h2 : (BitVec.ofInt 8 (b.toNat : Int)).toNat = b.toNat := by
    rw [BitVec.ofInt_natCast, BitVec.toNat_ofNat]; exact Nat.mod_eq_of_lt b.toNat_lt
  show IntKind.u8.wrap ((BitVec.ofInt 8 (a.toNat : Int) ^^^ BitVec.ofInt 8 (b.toNat : Int)).toNat : Int) = _
  rw [BitVec.toNat_xor, h1, h2, UInt8.toNat_xor]
  have := (a ^^^ b).toNat_lt
  rw [UInt8.toNat_xor] at this
  simp [IntKind.wrap, IntKind.bits, IntKind.signed]
  omega

end Go.Proofs.YtipemmjbgegmfaaGreatDoor

/- The sum: the document's, walked. -/
namespace Go.Proofs.YtipemmjbgegmfaaGreatDoor
open Go.RowKit

theorem xor_ones (a : Nat) (ha : a < 4294967296) : bits .xor .u32 (a : Int) 4294967295 = ((a ^^^ 4294967295 : Nat) : Int) := bits_xor32 a 4294967295 ha (by decide)
theorem xor_poly (a : Nat) (ha : a < 4294967296) : bits .xor .u32 ((a : Int) / 2) 3988292384 = ((a / 2 ^^^ 3988292384 : Nat) : Int) := by
  have := bits_xor32 (a / 2) 3988292384 (by omega) (by decide)
  rwa [show (((a / 2 : Nat) : Int)) = (a : Int) / 2 from by omega] at this

set_option maxRecDepth 100000 in
theorem on_ref0 (A : Option Addr) (n d : Nat) (v : Nat) (hv : v < 4294967296) (l : List UInt8) (w : World) (h : Rd w A d (bs l)) (hn : n = l.length) :
    Calls Tryz.prog 33 #[.int .u32 (v : Int), .slice A n d] w fun e w' => e = .returned (.int .u32 (crcOn v l : Int)) ∧ w' = w := by
  have hf := h.fit
  have hmx := h.max
  rw [bs_len] at hf
  unfold maxLen at hmx
  have hfn : n ≤ d := by omega
  have hmn : d ≤ 9223372036854775807 := by omega
  have Hn := Lib.hid hn
  have H := Lib.hid h
  have hres : Hid (crcOn v l = crw (v ^^^ 4294967295) l ^^^ 4294967295) := Lib.hid rfl
  have hv2 : v ^^^ 4294967295 < 4294967296 := xor_lt hv (by decide)
  have he := xor_ones v hv
  have HT := Lib.hid (fun k (h : k < l.length) => crw_snoc (v ^^^ 4294967295) l k h)
  have HL := Lib.hid (fun k => crw_lt hv2 (l.take k))
  have H0 := Lib.hid (show crw (v ^^^ 4294967295) (l.take 0) = v ^^^ 4294967295 from rfl)
  have H1 := Lib.hid (show n ≤ n → crw (v ^^^ 4294967295) (l.take n) = crw (v ^^^ 4294967295) l from fun _ => by rw [hn, List.take_length])
  clear h hn hf hmx hv
  generalize crcOn v l = R at *
  generalize v ^^^ 4294967295 = v0 at *
  go_enter Tryz.func33, Tryz.ntmps33
  go_wp2_with fail
  clear he
  go_loopw [5, 6] (fun x i wr => ∃ k : Nat, k ≤ n ∧ i = .int .i64 (k : Int) ∧ x = .int .u32 (crw v0 (l.take k) : Int) ∧ Hid (wr = w)) (fun _ i _ => n - (intOf i).toNat)
  case atStart => exact ⟨0, Nat.zero_le _, rfl, by rw [H0.out], Lib.hid rfl⟩
  case round =>
    obtain ⟨k, hk, rfl, rfl, hu⟩ := hrel
    have hX := HL.out k
    by_cases hlt : k < n
    · have hkl : k < l.length := by rw [← Hn.out]; exact hlt
      have hstep := Lib.hid (HT.out k hkl)
      obtain ⟨a, rfl, _⟩ := H.out.ad (by omega)
      have hcell : wr.cell? (a.add k) = some (.int .u8 (l[k].toNat : Int)) := (hu.out.symm ▸ H.out : Rd wr (some a) d (bs l)).cell a rfl k _ (bs_get l k hkl)
      have hb := byte_lt l[k]
      have hY : crw v0 (l.take k) ^^^ l[k].toNat < 4294967296 := xor_lt hX hb
      have hxb := bits_xor32 (crw v0 (l.take k)) l[k].toNat hX hb
      have hfin : Hid (crw v0 (l.take (k + 1)) = cit 8 (crw v0 (l.take k) ^^^ l[k].toNat)) := Lib.hid hstep.out
      clear hstep HT HL H0 H1 hX
      generalize crw v0 (l.take k) = X at *
      generalize l[k].toNat = b at *
      generalize X ^^^ b = Y at *
      go_wp2_with fail
      have HS := Lib.hid (fun j => show cit (j + 1) Y = cst (cit j Y) from rfl)
      have HZ := Lib.hid (fun j => cit_lt hY j)
      have H00 : Hid (cit 0 Y = Y) := Lib.hid rfl
      clear hcell hb hxb hY
      rename World => wo
      go_loopw [5, 7] (fun x i wr => ∃ j : Nat, j ≤ 8 ∧ i = .int .i64 (j : Int) ∧ x = .int .u32 (cit j Y : Int) ∧ Hid (wr = w)) (fun _ i _ => 8 - (intOf i).toNat)
      case atStart => exact ⟨0, by omega, rfl, by rw [H00.out], hu⟩
      case round =>
        obtain ⟨j, hj, rfl, rfl, hux⟩ := hrel
        by_cases hjl : j < 8
        · have hst := Lib.hid (HS.out j)
          have hZ := HZ.out j
          clear hfin HS HZ H00 hu
          generalize cit j Y = Z at *
          have hxp := xor_poly Z hZ
          by_cases ho : Z % 2 = 1
          · have hob : ((Z : Int) % 2 == 1) = true := by simp; omega
            have hz2 : Hid (Z / 2 ^^^ 3988292384 = cit (j + 1) Y) := Lib.hid (by rw [hst.out]; unfold cst; rw [if_pos ho])
            clear hst ho
            go_wp2_with fail
            go_roundw
            case rel => exact ⟨j + 1, by omega, by go_num, by rw [hz2.out], hux⟩
            case measure => simp [intOf]; omega
          · have hob : ((Z : Int) % 2 == 1) = false := by simp; omega
            have hz2 : Hid (Z / 2 = cit (j + 1) Y) := Lib.hid (by rw [hst.out]; unfold cst; rw [if_neg ho])
            clear hst ho hxp
            go_wp2_with fail
            go_roundw
            case rel => exact ⟨j + 1, by omega, by go_num, by rw [← hz2.out]; go_num, hux⟩
            case measure => simp [intOf]; omega
        · obtain rfl : j = 8 := by omega
          have hfo := hfin.out
          rw [← hfo]
          have HFo := Lib.hid hfo
          clear hfin hfo HS HZ H00 hu
          go_wp2_with fail
          go_roundw
          case rel => exact ⟨k + 1, by omega, by go_num, rfl, hux⟩
          case measure => simp [intOf]; omega
    · obtain rfl : k = n := by omega
      have hXe := H1.out (Nat.le_refl _)
      rw [hXe] at hX ⊢
      have hxo := xor_ones _ hX
      have hr := hres.out
      clear HT HL H0 H1 hXe
      generalize crw v0 l = X at *
      go_wp2_with fail
      go_ret
      exact ⟨by rw [hr]; rfl, hu.out⟩

theorem on_ref (A : Option Addr) (n d : Nat) (v : Nat) (hv : v < 4294967296) (l : List UInt8) (w : World) (h : Rd w A d (bs l)) (hn : n = l.length) :
    Calls Tryz.prog 33 #[.int .u32 (v : Int), .slice A n d] w fun e w' => e = .returned (.int .u32 (crcOn v l : Int)) ∧ Up w w' :=
  (on_ref0 A n d v hv l w h hn).mono fun _ _ h => ⟨h.1, h.2 ▸ Up.refl w⟩

end Go.Proofs.YtipemmjbgegmfaaGreatDoor

/- What is asked of the program's sum; the closed cases of stage 9. -/
namespace Go.Proofs.YtipemmjbgegmfaaGreatDoor
open Go.RowKit

theorem crc_digits : crcOf [49, 50, 51, 52, 53, 54, 55, 56, 57] = 3421780262 := by decide +kernel
theorem crc_cut : crcOn (crcOn 0 [49, 50, 51, 52]) [53, 54, 55, 56, 57] = 3421780262 := by decide +kernel

/-- A constant's bytes: the row bears a mark behind its last place. -/
theorem rd_mark (w : World) (l : List UInt8) (n : Nat) (fr : Nat × Nat) (hn : n = l.length) (hm : n ≤ 1000) : Rd (w.alloc (.cells (bs l).toArray 5 fr)) (some ⟨w.heap.size, 0, none⟩) n (bs l) := by
  subst hn
  refine ⟨by rw [bs_len]; omega, by unfold maxLen; omega, fun _ => ⟨_, rfl, by simp⟩, fun _ => .inr ⟨_, rfl⟩, fun a ha j u hu => ?_⟩
  injection ha with e
  subst e
  have hadd : (⟨w.heap.size, 0, none⟩ : Addr).add j = ⟨w.heap.size, j, none⟩ := by unfold Addr.add; split <;> simp_all
  rw [hadd, World.cell?_alloc_mark]
  simpa using hu

end Go.Proofs.YtipemmjbgegmfaaGreatDoor

/- A slice of slices of bytes that came in. -/
namespace Go.Proofs.YtipemmjbgegmfaaGreatDoor
open Go.RowKit

/-- A slice of slices of bytes that came in. -/
def RowsIn (w : World) (O : Option Addr) (LL : List (List UInt8)) : Prop :=
  ∀ i, (h : i < LL.length) → ∃ a A c, O = some a ∧ a.block < w.heap.size ∧ w.cell? (a.add i) = some (.slice A LL[i].length c) ∧ Rd w A c (bs LL[i])

theorem flat_succ (LL : List (List UInt8)) (i : Nat) (h : i < LL.length) : (LL.take (i + 1)).flatten = (LL.take i).flatten ++ LL[i] := by
  rw [List.take_succ_eq_append_getElem h, List.flatten_append]; simp
theorem flat_le (LL : List (List UInt8)) (i : Nat) (h : i < LL.length) : (LL.take i).flatten.length + LL[i].length ≤ LL.flatten.length := by
  have h1 := flat_succ LL i h
  have h2 : LL.flatten = (LL.take (i + 1)).flatten ++ (LL.drop (i + 1)).flatten := by rw [← List.flatten_append, List.take_append_drop]
  have h3 := congrArg List.length h1
  have h4 := congrArg List.length h2
  rw [List.length_append] at h3 h4
  omega

end Go.Proofs.YtipemmjbgegmfaaGreatDoor

/- The program's sum does what is asked: bit by bit, each byte handed to a method that is handed on as a value. -/
namespace Go.Proofs.YtipemmjbgegmfaaGreatDoor
open Go.RowKit

theorem turned_code (v : Nat) (w : World) (hv : v < 4294967296) : Calls Tryz.prog 59 #[.int .u32 (v : Int)] w fun e w' => e = .returned (.int .u32 ((v ^^^ 4294967295 : Nat) : Int)) ∧ Up w w' := by
  have he : bits .xor .u32 IntKind.u32.max (v : Int) = ((v ^^^ 4294967295 : Nat) : Int) := by
    rw [Nat.xor_comm]
    exact bits_xor32 4294967295 v (by decide) hv
  go_enter Tryz.func59, Tryz.ntmps59
  go_wp2_with fail
  go_ret
  exact ⟨rfl, Up.refl _⟩

set_option maxRecDepth 100000 in
theorem next_code (x : Nat) (c : UInt8) (w : World) (hx : x < 4294967296) :
    Calls Tryz.prog 60 #[.int .u32 (x : Int), .int .u8 (c.toNat : Int)] w fun e w' => e = .returned (.int .u32 (cby x c : Int)) ∧ Up w w' := by
  have hb := byte_lt c
  have hY : x ^^^ c.toNat < 4294967296 := xor_lt hx hb
  have hxb := bits_xor32 x c.toNat hx hb
  have hR : Hid (cit 8 (x ^^^ c.toNat) = cby x c) := Lib.hid rfl
  generalize cby x c = R at *
  generalize c.toNat = b at *
  generalize x ^^^ b = Y at *
  go_enter Tryz.func60, Tryz.ntmps60
  go_wp2_with fail
  have HS := Lib.hid (fun j => show cit (j + 1) Y = cst (cit j Y) from rfl)
  have HZ := Lib.hid (fun j => cit_lt hY j)
  have H00 : Hid (cit 0 Y = Y) := Lib.hid rfl
  clear hb hxb hY hx
  go_loopw [0, 9] (fun y i wr => ∃ j : Nat, j ≤ 8 ∧ i = .int .i64 (j : Int) ∧ y = .int .u32 (cit j Y : Int) ∧ Up w wr) (fun _ i _ => 8 - (intOf i).toNat)
  case atStart => exact ⟨0, by omega, rfl, by rw [H00.out], Up.refl _⟩
  case round =>
    obtain ⟨j, hj, rfl, rfl, hux⟩ := hrel
    by_cases hjl : j < 8
    · have hst := Lib.hid (HS.out j)
      have hZ := HZ.out j
      clear hR HS HZ H00
      generalize cit j Y = Z at *
      have han := bits_and_one Z hZ
      by_cases ho : Z % 2 = 1
      · have hxp := xor_poly Z hZ
        rw [ho] at han
        have hz2 : Hid (Z / 2 ^^^ 3988292384 = cit (j + 1) Y) := Lib.hid (by rw [hst.out]; unfold cst; rw [if_pos ho])
        clear hst ho
        go_wp2_with fail
        go_roundw
        case rel => exact ⟨j + 1, by omega, by go_num, by rw [hz2.out], hux⟩
        case measure => simp [intOf]; omega
      · have ho2 : Z % 2 = 0 := by omega
        have hxp := bits_xor32 (Z / 2) 0 (by omega) (by decide)
        rw [Nat.xor_zero, show (((Z / 2 : Nat) : Int)) = (Z : Int) / 2 from by omega] at hxp
        rw [ho2] at han
        have hz2 : Hid (Z / 2 = cit (j + 1) Y) := Lib.hid (by rw [hst.out]; unfold cst; rw [if_neg ho])
        clear hst ho ho2
        go_wp2_with fail
        go_roundw
        case rel => exact ⟨j + 1, by omega, by go_num, by rw [← hz2.out]; go_num, hux⟩
        case measure => simp [intOf]; omega
    · obtain rfl : j = 8 := by omega
      have hfo := hR.out
      rw [hfo]
      clear hR hfo HS HZ H00
      go_wp2_with fail
      go_ret
      exact ⟨rfl, hux⟩

set_option maxRecDepth 100000 in
theorem over_code (A : Option Addr) (n d x : Nat) (l : List UInt8) (w : World) (hx : x < 4294967296) (h : Rd w A d (bs l)) (hn : n = l.length) :
    Calls Tryz.prog 58 #[.int .u32 (x : Int), .slice A n d, .func (.func 60) #[] #[]] w fun e w' => e = .returned (.int .u32 (crw x l : Int)) ∧ Up w w' := by
  have hf := h.fit
  have hmx := h.max
  rw [bs_len] at hf
  unfold maxLen at hmx
  have hmn : d ≤ 9223372036854775807 := by omega
  have hfn : n ≤ d := by omega
  have Hn := Lib.hid hn
  have H := Lib.hid h
  have HT := Lib.hid (fun k (h : k < l.length) => crw_snoc x l k h)
  have HL := Lib.hid (fun k => crw_lt hx (l.take k))
  have H0 := Lib.hid (show crw x (l.take 0) = x from rfl)
  have H1 := Lib.hid (show n ≤ n → crw x (l.take n) = crw x l from fun _ => by rw [hn, List.take_length])
  have C := Lib.hid next_code
  have E := Lib.hid (enters_of Tryz.func60 (by kernel_rfl) rfl)
  clear h hn hf hmx hx
  generalize crw x l = R at *
  go_enter Tryz.func58, Tryz.ntmps58
  go_wp2_with fail
  go_loopw [0, 11] (fun y i wr => ∃ k : Nat, k ≤ n ∧ i = .int .i64 (k : Int) ∧ y = .int .u32 (crw x (l.take k) : Int) ∧ Up w wr) (fun _ i _ => n - (intOf i).toNat)
  case atStart => exact ⟨0, Nat.zero_le _, rfl, by rw [H0.out], Up.refl w⟩
  case round =>
    obtain ⟨k, hk, rfl, rfl, hu⟩ := hrel
    have hX := HL.out k
    by_cases hlt : k < n
    · have hkl : k < l.length := by rw [← Hn.out]; exact hlt
      have hstep := Lib.hid (HT.out k hkl)
      obtain ⟨a, rfl, _⟩ := H.out.ad (by omega)
      have hcell : wr.cell? (a.add k) = some (.int .u8 (l[k].toNat : Int)) := (H.out.up hu).cell a rfl k _ (bs_get l k hkl)
      have HC := Lib.hid (fun w' => C.out (crw x (l.take k)) l[k] w' hX)
      have ev := E.out
      clear HT HL H0 H1 hX C E
      generalize crw x (l.take k) = X at *
      generalize l[k] = b at *
      go_wp2_with fail
      refine (HC.out _).mono ?_
      rintro e w2 ⟨rfl, hu2⟩
      go_wp2_with fail
      go_roundw
      case rel => exact ⟨k + 1, by omega, by go_num, by rw [hstep.out], hu.trans hu2⟩
      case measure => simp [intOf]; omega
    · obtain rfl : k = n := by omega
      have hXe := H1.out (Nat.le_refl _)
      rw [hXe]
      clear HT HL H0 H1 hXe hX C E
      go_wp2_with fail
      go_ret
      exact ⟨rfl, hu⟩

theorem add_code (A : Option Addr) (n d v : Nat) (l : List UInt8) (w : World) (hv : v < 4294967296) (h : Rd w A d (bs l)) (hn : n = l.length) :
    Calls Tryz.prog 41 #[.int .u32 (v : Int), .slice A n d] w fun e w' => e = .returned (.int .u32 (crcOn v l : Int)) ∧ Up w w' := by
  have hv2 : v ^^^ 4294967295 < 4294967296 := xor_lt hv (by decide)
  have c1 := Lib.hid (fun w' => turned_code v w' hv)
  have c2 := Lib.hid (fun w' (u : Up w w') => over_code A n d (v ^^^ 4294967295) l w' hv2 (h.up u) hn)
  have c3 := Lib.hid (fun w' => turned_code (crw (v ^^^ 4294967295) l) w' (crw_lt hv2 l))
  have hres : Hid (crw (v ^^^ 4294967295) l ^^^ 4294967295 = crcOn v l) := Lib.hid rfl
  clear h hn hv hv2
  generalize crcOn v l = R at *
  generalize crw (v ^^^ 4294967295) l = X at *
  generalize v ^^^ 4294967295 = v0 at *
  rw [hres.out] at c3
  go_enter Tryz.func41, Tryz.ntmps41
  go_wp2_with fail
  refine (c1.out _).mono ?_
  rintro e w1 ⟨rfl, hu1⟩
  go_wp2_with fail
  refine (c2.out _ hu1).mono ?_
  rintro e w2 ⟨rfl, hu2⟩
  go_wp2_with fail
  refine (c3.out _).mono ?_
  rintro e w3 ⟨rfl, hu3⟩
  go_wp2_with fail
  go_ret
  exact ⟨rfl, (hu1.trans hu2).trans hu3⟩

theorem value_code (v : Int) (w : World) : Calls Tryz.prog 42 #[.int .u32 v] w fun e w' => e = .returned (.int .u32 v) ∧ Up w w' := by
  go_enter Tryz.func42, Tryz.ntmps42
  go_wp2_with fail
  go_ret
  exact ⟨rfl, Up.refl _⟩
theorem from_code (v : Int) (w : World) : Calls Tryz.prog 40 #[.int .u32 v] w fun e w' => e = .returned (.int .u32 v) ∧ Up w w' := by
  go_enter Tryz.func40, Tryz.ntmps40
  go_wp2_with fail
  go_ret
  exact ⟨rfl, Up.refl _⟩
end Go.Proofs.YtipemmjbgegmfaaGreatDoor
