/- The sum of 32 bits, as the document defines it, on numbers: it is linear, and no byte is lost in it. -/
import Derived.Laws.Entries
import Derived.Laws.Bits64
namespace Go.Proofs.Ythgjjlllifcegaa
open Go

def cst (x : Nat) : Nat := if x % 2 = 1 then x / 2 ^^^ 3988292384 else x / 2
def cit : Nat → Nat → Nat
  | 0, x => x
  | k + 1, x => cst (cit k x)
def cby (x : Nat) (b : UInt8) : Nat := cit 8 (x ^^^ b.toNat)
def crw (x : Nat) (l : List UInt8) : Nat := l.foldl cby x
def crcOn (v : Nat) (l : List UInt8) : Nat := crw (v ^^^ 4294967295) l ^^^ 4294967295
def crcOf (l : List UInt8) : Nat := crcOn 0 l

theorem xor_lt {a b : Nat} (ha : a < 4294967296) (hb : b < 4294967296) : a ^^^ b < 4294967296 := Nat.xor_lt_two_pow (n := 32) ha hb
theorem cst_lt {x : Nat} (h : x < 4294967296) : cst x < 4294967296 := by
  unfold cst
  split
  · exact xor_lt (by omega) (by decide)
  · omega
theorem cit_lt {x : Nat} (h : x < 4294967296) : ∀ k, cit k x < 4294967296
  | 0 => h
  | k + 1 => cst_lt (cit_lt h k)
theorem byte_lt (b : UInt8) : b.toNat < 4294967296 := Nat.lt_trans b.toNat_lt (by decide)
theorem cby_lt {x : Nat} (h : x < 4294967296) (b : UInt8) : cby x b < 4294967296 := cit_lt (xor_lt h (byte_lt b)) 8
theorem crw_lt {x : Nat} (h : x < 4294967296) (l : List UInt8) : crw x l < 4294967296 := by
  induction l generalizing x with
  | nil => exact h
  | cons b l ih => exact ih (cby_lt h b)
theorem crcOn_lt {v : Nat} (h : v < 4294967296) (l : List UInt8) : crcOn v l < 4294967296 := xor_lt (crw_lt (xor_lt h (by decide)) l) (by decide)
theorem crcOf_lt (l : List UInt8) : crcOf l < 4294967296 := crcOn_lt (by decide) l

theorem xor_back (a b : Nat) : a ^^^ b ^^^ b = a := by rw [Nat.xor_assoc, Nat.xor_self, Nat.xor_zero]
theorem crw_append (x : Nat) (a b : List UInt8) : crw x (a ++ b) = crw (crw x a) b := List.foldl_append
theorem crcOn_append (v : Nat) (a b : List UInt8) : crcOn v (a ++ b) = crcOn (crcOn v a) b := by
  unfold crcOn
  rw [crw_append, xor_back]
theorem crcOf_append (a b : List UInt8) : crcOf (a ++ b) = crcOn (crcOf a) b := crcOn_append 0 a b
theorem crcOn_nil (v : Nat) : crcOn v [] = v := xor_back v _
theorem crw_snoc (x : Nat) (l : List UInt8) (k : Nat) (h : k < l.length) : crw x (l.take (k + 1)) = cby (crw x (l.take k)) l[k] := by
  rw [List.take_succ_eq_append_getElem h, crw_append]; rfl

/-! ### Linear -/
theorem half_xor (a b : Nat) : (a ^^^ b) / 2 = a / 2 ^^^ b / 2 := by
  have := Nat.shiftRight_xor_distrib (a := a) (b := b) (i := 1)
  simpa [Nat.shiftRight_eq_div_pow] using this
theorem odd_xor (a b : Nat) : (a ^^^ b) % 2 = (a % 2 + b % 2) % 2 := by
  have h := Nat.testBit_xor (x := a) (y := b) (i := 0)
  simp only [Nat.testBit_zero] at h
  rcases Nat.mod_two_eq_zero_or_one a with h1 | h1 <;> rcases Nat.mod_two_eq_zero_or_one b with h2 | h2 <;> rw [h1, h2] at h ⊢ <;> rcases Nat.mod_two_eq_zero_or_one (a ^^^ b) with h3 | h3 <;> rw [h3] at h ⊢ <;> revert h <;> decide
theorem cst_xor (a b : Nat) : cst (a ^^^ b) = cst a ^^^ cst b := by
  unfold cst
  rw [odd_xor, half_xor]
  rcases Nat.mod_two_eq_zero_or_one a with h1 | h1 <;> rcases Nat.mod_two_eq_zero_or_one b with h2 | h2 <;> simp only [h1, h2] <;> simp
  · ac_rfl
  · ac_rfl
  · rw [show a / 2 ^^^ 3988292384 ^^^ (b / 2 ^^^ 3988292384) = (a / 2 ^^^ b / 2) ^^^ (3988292384 ^^^ 3988292384) from by ac_rfl, Nat.xor_self, Nat.xor_zero]
theorem cit_xor (a b : Nat) : ∀ k, cit k (a ^^^ b) = cit k a ^^^ cit k b
  | 0 => rfl
  | k + 1 => by unfold cit; rw [cit_xor a b k, cst_xor]

/-! ### No byte is lost -/
theorem cst_zero {z : Nat} (h : z < 4294967296) (hz : cst z = 0) : z = 0 := by
  unfold cst at hz
  split at hz
  · have : z / 2 = 3988292384 := by
      have := congrArg (· ^^^ 3988292384) hz
      simp only [xor_back, Nat.zero_xor] at this
      exact this
    omega
  · omega
theorem cit_zero {z : Nat} (h : z < 4294967296) : ∀ k, cit k z = 0 → z = 0
  | 0, hz => hz
  | k + 1, hz => cit_zero h k (cst_zero (cit_lt h k) hz)
theorem xor_eq {a b : Nat} (h : a ^^^ b = 0) : a = b := by
  have := congrArg (· ^^^ b) h
  simpa [xor_back] using this
theorem cit_inj {a b : Nat} (ha : a < 4294967296) (hb : b < 4294967296) (k : Nat) (h : cit k a = cit k b) : a = b :=
  xor_eq (cit_zero (xor_lt ha hb) k (by rw [cit_xor, h, Nat.xor_self]))
theorem xor_right {a b c : Nat} (h : a ^^^ c = b ^^^ c) : a = b := by
  have := congrArg (· ^^^ c) h
  simpa [xor_back] using this
theorem xor_left {a b c : Nat} (h : c ^^^ a = c ^^^ b) : a = b := xor_right (c := c) (by rw [Nat.xor_comm a, Nat.xor_comm b]; exact h)
theorem cby_inj {x y : Nat} (hx : x < 4294967296) (hy : y < 4294967296) (b : UInt8) (h : cby x b = cby y b) : x = y :=
  xor_right (cit_inj (xor_lt hx (byte_lt b)) (xor_lt hy (byte_lt b)) 8 h)
theorem cby_byte {x : Nat} (hx : x < 4294967296) {b c : UInt8} (h : cby x b = cby x c) : b = c :=
  UInt8.toNat_inj.1 (xor_left (cit_inj (xor_lt hx (byte_lt b)) (xor_lt hx (byte_lt c)) 8 h))
theorem crw_inj (l : List UInt8) {x y : Nat} (hx : x < 4294967296) (hy : y < 4294967296) (h : crw x l = crw y l) : x = y := by
  induction l generalizing x y with
  | nil => exact h
  | cons b l ih => exact cby_inj hx hy b (ih (cby_lt hx b) (cby_lt hy b) h)
/-- A byte that is changed changes the sum. -/
theorem crc_turned (P Q : List UInt8) (b c : UInt8) (h : crcOf (P ++ b :: Q) = crcOf (P ++ c :: Q)) : b = c := by
  have h := xor_right (c := 4294967295) h
  rw [crw_append, crw_append] at h
  have hP : crw (0 ^^^ 4294967295) P < 4294967296 := crw_lt (by decide) P
  exact cby_byte hP (crw_inj Q (cby_lt hP b) (cby_lt hP c) h)

/-! ### By a table of 256 numbers -/
theorem cit_first : ∀ (k x : Nat), cit (k + 1) x = cit k (cst x)
  | 0, _ => rfl
  | k + 1, x => by
    show cst (cit (k + 1) x) = cst (cit k (cst x))
    rw [cit_first k x]
theorem cst_even (z : Nat) : cst (z * 2) = z := by
  unfold cst
  rw [if_neg (by omega)]
  omega
theorem cit_high (y : Nat) : cit 8 (y * 256) = y := by
  rw [show y * 256 = y * 128 * 2 by omega, cit_first, cst_even, show y * 128 = y * 64 * 2 by omega, cit_first, cst_even, show y * 64 = y * 32 * 2 by omega, cit_first, cst_even,
    show y * 32 = y * 16 * 2 by omega, cit_first, cst_even, show y * 16 = y * 8 * 2 by omega, cit_first, cst_even, show y * 8 = y * 4 * 2 by omega, cit_first, cst_even,
    show y * 4 = y * 2 * 2 by omega, cit_first, cst_even, cit_first, cst_even]
  rfl
theorem xor_split (x : Nat) : x / 256 * 256 ^^^ x % 256 = x := by
  have h1 : (x / 256 * 256 ^^^ x % 256) / 2 ^ 8 = x / 256 * 256 / 2 ^ 8 ^^^ x % 256 / 2 ^ 8 := by
    have := Nat.shiftRight_xor_distrib (a := x / 256 * 256) (b := x % 256) (i := 8)
    simpa [Nat.shiftRight_eq_div_pow] using this
  have h2 : (x / 256 * 256 ^^^ x % 256) % 2 ^ 8 = x / 256 * 256 % 2 ^ 8 ^^^ x % 256 % 2 ^ 8 := Nat.xor_mod_two_pow
  have e1 : x / 256 * 256 / 2 ^ 8 = x / 256 := by omega
  have e2 : x % 256 / 2 ^ 8 = 0 := by omega
  have e3 : x / 256 * 256 % 2 ^ 8 = 0 := by omega
  have e4 : x % 256 % 2 ^ 8 = x % 256 := by omega
  rw [e1, e2, Nat.xor_zero] at h1
  rw [e3, e4, Nat.zero_xor] at h2
  omega
/-- What a table tells: a byte's step. -/
theorem cit_table (x : Nat) : cit 8 x = x / 256 ^^^ cit 8 (x % 256) := by
  have := cit_xor (x / 256 * 256) (x % 256) 8
  rw [xor_split, cit_high] at this
  exact this
theorem cby_table (x : Nat) (b : UInt8) : cby x b = x / 256 ^^^ cit 8 ((x ^^^ b.toNat) % 256) := by
  unfold cby
  rw [cit_table]
  congr 1
  have h1 : (x ^^^ b.toNat) / 2 ^ 8 = x / 2 ^ 8 ^^^ b.toNat / 2 ^ 8 := by
    have := Nat.shiftRight_xor_distrib (a := x) (b := b.toNat) (i := 8)
    simpa [Nat.shiftRight_eq_div_pow] using this
  have hb := b.toNat_lt
  have e : b.toNat / 2 ^ 8 = 0 := by omega
  rw [e, Nat.xor_zero] at h1
  exact h1

/-- Three texts of one length. -/
def xor3 : List UInt8 → List UInt8 → List UInt8 → List UInt8
  | a :: l, b :: m, c :: n => (a ^^^ b ^^^ c) :: xor3 l m n
  | _, _, _ => []
theorem crw_xor3 : ∀ (l m n : List UInt8) (x y z : Nat), l.length = m.length → l.length = n.length → crw (x ^^^ y ^^^ z) (xor3 l m n) = crw x l ^^^ crw y m ^^^ crw z n
  | [], [], [], _, _, _, _, _ => rfl
  | a :: l, b :: m, c :: n, x, y, z, h1, h2 => by
    have e : cby (x ^^^ y ^^^ z) (a ^^^ b ^^^ c) = cby x a ^^^ cby y b ^^^ cby z c := by
      unfold cby
      rw [UInt8.toNat_xor, UInt8.toNat_xor, ← cit_xor, ← cit_xor]
      congr 1
      ac_rfl
    show crw (cby (x ^^^ y ^^^ z) (a ^^^ b ^^^ c)) (xor3 l m n) = crw (cby x a) l ^^^ crw (cby y b) m ^^^ crw (cby z c) n
    rw [e]
    exact crw_xor3 l m n _ _ _ (by simpa using h1) (by simpa using h2)
  | [], _ :: _, _, _, _, _, h, _ => by simp at h
  | [], [], _ :: _, _, _, _, _, h => by simp at h
  | _ :: _, [], _, _, _, _, h, _ => by simp at h
  | _ :: _, _ :: _, [], _, _, _, _, h => by simp at h
theorem crc_xor3 (l m n : List UInt8) (h1 : l.length = m.length) (h2 : l.length = n.length) : crcOf l ^^^ crcOf m ^^^ crcOf n = crcOf (xor3 l m n) := by
  have := crw_xor3 l m n (0 ^^^ 4294967295) (0 ^^^ 4294967295) (0 ^^^ 4294967295) h1 h2
  have e : (0 ^^^ 4294967295 : Nat) ^^^ (0 ^^^ 4294967295) ^^^ (0 ^^^ 4294967295) = 0 ^^^ 4294967295 := by decide
  rw [e] at this
  unfold crcOf crcOn
  rw [this]
  generalize crw (0 ^^^ 4294967295) l = A
  generalize crw (0 ^^^ 4294967295) m = B
  generalize crw (0 ^^^ 4294967295) n = C
  rw [show A ^^^ 4294967295 ^^^ (B ^^^ 4294967295) ^^^ (C ^^^ 4294967295) = (A ^^^ B ^^^ C ^^^ 4294967295) ^^^ (4294967295 ^^^ 4294967295) from by ac_rfl, Nat.xor_self, Nat.xor_zero]

/-! ### How the walk writes it -/
theorem bits_xor32 (a b : Nat) (ha : a < 4294967296) (hb : b < 4294967296) : bits .xor .u32 (a : Int) (b : Int) = ((a ^^^ b : Nat) : Int) := by
  have hx : a ^^^ b < 4294967296 := xor_lt ha hb
  have h1 : (BitVec.ofInt 32 (a : Int)).toNat = a := by
    rw [BitVec.ofInt_natCast, BitVec.toNat_ofNat]; exact Nat.mod_eq_of_lt (by omega)
  have h2 : (BitVec.ofInt 32 (b : Int)).toNat = b := by
    rw [BitVec.ofInt_natCast, BitVec.toNat_ofNat]; exact Nat.mod_eq_of_lt (by omega)
  show IntKind.u32.wrap ((BitVec.ofInt 32 (a : Int) ^^^ BitVec.ofInt 32 (b : Int)).toNat : Int) = _
  rw [BitVec.toNat_xor, h1, h2]
  simp [IntKind.wrap, IntKind.bits, IntKind.signed]
  omega
theorem bits_and_one (a : Nat) (ha : a < 4294967296) : bits .and .u32 (a : Int) 1 = ((a % 2 : Nat) : Int) := by
  have h1 : (BitVec.ofInt 32 (a : Int)).toNat = a := by
    rw [BitVec.ofInt_natCast, BitVec.toNat_ofNat]; exact Nat.mod_eq_of_lt (by omega)
  have h2 : (BitVec.ofInt 32 1).toNat = 1 := by decide
  show IntKind.u32.wrap ((BitVec.ofInt 32 (a : Int) &&& BitVec.ofInt 32 1).toNat : Int) = _
  rw [BitVec.toNat_and, h1, h2, Nat.and_one_is_mod]
  simp [IntKind.wrap, IntKind.bits, IntKind.signed]
  omega
theorem bits_xor8 (a b : UInt8) : bits .xor .u8 (a.toNat : Int) (b.toNat : Int) = ((a ^^^ b).toNat : Int) := by
  have h1 : (BitVec.ofInt 8 (a.toNat : Int)).toNat = a.toNat := by
    rw [BitVec.ofInt_natCast, BitVec.toNat_ofNat]; exact Nat.mod_eq_of_lt a.toNat_lt
  have h2 : (BitVec.ofInt 8 (b.toNat : Int)).toNat = b.toNat := by
    rw [BitVec.ofInt_natCast, BitVec.toNat_ofNat]; exact Nat.mod_eq_of_lt b.toNat_lt
  show IntKind.u8.wrap ((BitVec.ofInt 8 (a.toNat : Int) ^^^ BitVec.ofInt 8 (b.toNat : Int)).toNat : Int) = _
  rw [BitVec.toNat_xor, h1, h2, UInt8.toNat_xor]
  have := (a ^^^ b).toNat_lt
  rw [UInt8.toNat_xor] at this
  simp [IntKind.wrap, IntKind.bits, IntKind.signed]
  omega

end Go.Proofs.Ythgjjlllifcegaa
