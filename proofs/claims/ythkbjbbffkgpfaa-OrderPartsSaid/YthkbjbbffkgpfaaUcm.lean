/- Sets of characters as numbers: what is decomposed comes to an end; what is composed again does not combine. -/
import Derived.Test.YthkbjbbffkgpfaaUce
namespace Go.Proofs.Ythkbjbbffkgpfaa
open Go.RowKit

def bit (M c : Nat) : Bool := Nat.beq (Nat.land (Nat.shiftRight M c) 1) 1
theorem bit_eq (M c : Nat) : bit M c = M.testBit c := by
  rw [Nat.testBit_eq_decide_div_mod_eq, Bool.eq_iff_iff, decide_eq_true_eq]
  unfold bit
  rw [Nat.beq_eq, show Nat.land (Nat.shiftRight M c) 1 = (M >>> c) &&& 1 from rfl, Nat.and_one_is_mod, Nat.shiftRight_eq_div_pow]
def maskK (g : List UInt8 → Nat) (size : Nat) : Nat → List UInt8 → Nat → (Nat → Bool) → Bool
  | 0, _, M, k => k M
  | n + 1, l, M, k => force (Nat.lor M (g l)) fun M => maskK g size n (l.drop size) M k
theorem maskK_eq (g : List UInt8 → Nat) (size : Nat) (k : Nat → Bool) : ∀ (n : Nat) (l : List UInt8) (M : Nat),
    ∃ M' : Nat, maskK g size n l M k = k M' ∧ ∀ c, bit M' c = true ↔ bit M c = true ∨ ∃ i, i < n ∧ bit (g (l.drop (i * size))) c = true
  | 0, l, M => ⟨M, rfl, fun c => by simp⟩
  | n + 1, l, M => by
    unfold maskK
    rw [force_eq]
    obtain ⟨M', h1, h2⟩ := maskK_eq g size k n (l.drop size) (Nat.lor M (g l))
    refine ⟨M', h1, fun c => ?_⟩
    rw [h2 c]
    have ho : bit (Nat.lor M (g l)) c = true ↔ bit M c = true ∨ bit (g l) c = true := by
      rw [bit_eq, bit_eq, bit_eq, show Nat.lor M (g l) = M ||| g l from rfl, Nat.testBit_or, Bool.or_eq_true]
    rw [ho, or_assoc]
    refine or_congr Iff.rfl ?_
    constructor
    · rintro (h | ⟨i, hi, h⟩)
      · exact ⟨0, by omega, by simpa using h⟩
      · exact ⟨i + 1, by omega, by rwa [List.drop_drop, Nat.add_comm size, ← Nat.succ_mul] at h⟩
    · rintro ⟨i, hi, h⟩
      cases i with
      | zero => left; simpa using h
      | succ i => right; exact ⟨i, by omega, by rwa [List.drop_drop, Nat.add_comm size, ← Nat.succ_mul]⟩
theorem bit_zero (c : Nat) : bit 0 c = false := by rw [bit_eq, Nat.zero_testBit]
theorem bit_one (a c : Nat) : bit (Nat.shiftLeft 1 a) c = true ↔ a = c := by
  rw [bit_eq, show Nat.shiftLeft 1 a = 1 <<< a from rfl, Nat.one_shiftLeft, Nat.testBit_two_pow, decide_eq_true_eq]
theorem bit_range (lo n c : Nat) : bit (Nat.shiftLeft (Nat.sub (Nat.pow 2 n) 1) lo) c = true ↔ lo ≤ c ∧ c < lo + n := by
  rw [bit_eq, show Nat.shiftLeft (Nat.sub (Nat.pow 2 n) 1) lo = (2 ^ n - 1) <<< lo from rfl, Nat.testBit_shiftLeft, Nat.testBit_two_pow_sub_one]
  simp only [Bool.and_eq_true, decide_eq_true_eq]
  omega

def ofKey (l : List UInt8) : Nat := Nat.shiftLeft 1 (f5 0 l)
def ofRange (l : List UInt8) : Nat := Nat.shiftLeft (Nat.sub (Nat.pow 2 (Nat.sub (Nat.succ (f5 5 l)) (f5 0 l))) 1) (f5 0 l)
end Go.Proofs.Ythkbjbbffkgpfaa
