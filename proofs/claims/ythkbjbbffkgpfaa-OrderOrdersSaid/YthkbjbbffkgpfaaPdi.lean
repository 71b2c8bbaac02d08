/- The program's digit, number, character, cmp.Compare. -/
import Derived.Test.YthkbjbbffkgpfaaUcr
import Derived.Outline
import Derived.Lib.Strings
import Derived.Lib.IndexBytes
namespace Go.Proofs.Ythkbjbbffkgpfaa
open Go.RowKit

theorem digit_prog (b : UInt8) (w : World) : Calls Try.prog 36 #[.int .u8 (b.toNat : Int)] w fun e w' => e = .returned (.int .u32 (dig b : Int)) ∧ w = w' := by
  have hb := UInt8.toNat_lt b
  obtain ⟨x, hx⟩ : ∃ x, b.toNat = x := ⟨_, rfl⟩
  unfold dig
  rw [hx] at hb ⊢
  clear hx
  by_cases h : 97 ≤ x
  · rw [if_pos h]
    go_enter Try.func36, Try.ntmps36
    go_wp2
    go_ret
    exact ⟨ret_val (by show Value.int IntKind.u32 ((x : Int) - 97 + 10) = _; congr 1; omega), rfl⟩
  · rw [if_neg h]
    go_enter Try.func36, Try.ntmps36
    go_wp2
    go_ret
    exact ⟨ret_val (by show Value.int IntKind.u32 (((x : Int) - 48) % 256) = _; congr 1; omega), rfl⟩

def hexes (l : List UInt8) : Prop := ∀ b ∈ l, dig b < 16

theorem num_lt (l : List UInt8) (h : hexes l) : num l + 1 ≤ 16 ^ l.length := by
  have : ∀ (l : List UInt8) (x k : Nat), hexes l → x + 1 ≤ k → l.foldl (fun x b => 16 * x + dig b) x + 1 ≤ k * 16 ^ l.length := fun l => by
    induction l with
    | nil => intro x k _ h; simpa using h
    | cons b l ih =>
      intro x k hh h
      have hd := hh b (by simp)
      have := ih (16 * x + dig b) (k * 16) (fun c hc => hh c (by simp [hc])) (by omega)
      rw [List.length_cons, Nat.pow_succ, Nat.mul_comm (16 ^ l.length) 16, ← Nat.mul_assoc k]
      exact this
  have := this l 0 1 h (by decide)
  rwa [Nat.one_mul] at this

theorem bits_or_hex (z b : Nat) (hz : z < 268435456) (hb : b < 16) : bits BinOp.or IntKind.u32 ((z : Int) * 16) (b : Int) = ((16 * z + b : Nat) : Int) := by
  have h1 : (BitVec.ofInt 32 ((z : Int) * 16)).toNat = 16 * z := by
    rw [show (z : Int) * 16 = ((16 * z : Nat) : Int) by omega, BitVec.ofInt_natCast, BitVec.toNat_ofNat]; exact Nat.mod_eq_of_lt (by omega)
  have h2 : (BitVec.ofInt 32 (b : Int)).toNat = b := by
    rw [BitVec.ofInt_natCast, BitVec.toNat_ofNat]; exact Nat.mod_eq_of_lt (by omega)
  show IntKind.u32.wrap ((BitVec.ofInt 32 ((z : Int) * 16) ||| BitVec.ofInt 32 (b : Int)).toNat : Int) = _
  rw [BitVec.toNat_or, h1, h2]
  have h3 : 16 * z ||| b = 16 * z + b := (Nat.two_pow_add_eq_or_of_lt (i := 4) hb z).symm
  rw [h3, IntKind.wrap_u32]
  omega
theorem bits_and_hex (n : Nat) : bits BinOp.and IntKind.u32 (n : Int) 15 = ((n % 16 : Nat) : Int) := by
  have h1 : (BitVec.ofInt 32 (n : Int)).toNat = n % 4294967296 := by
    rw [BitVec.ofInt_natCast, BitVec.toNat_ofNat]
  have h2 : (BitVec.ofInt 32 15).toNat = 15 := by decide
  show IntKind.u32.wrap ((BitVec.ofInt 32 (n : Int) &&& BitVec.ofInt 32 15).toNat : Int) = _
  rw [BitVec.toNat_and, h1, h2]
  have h3 : n % 4294967296 &&& 15 = n % 4294967296 % 16 := Nat.and_two_pow_sub_one_eq_mod _ 4
  rw [h3, IntKind.wrap_u32]
  omega

theorem number_prog (s : ByteArray) (hs : s.size ≤ 5) (hh : Hid (hexes s.data.toList)) (w : World) :
    Calls Try.prog 29 #[.string s] w fun e w' => e = .returned (.int .u32 (num s.data.toList : Int)) ∧ w = w' := by
  go_enter Try.func29, Try.ntmps29
  go_wp2
  go_loop [3, 7] (fun x i => ∃ q : Nat, q ≤ s.size ∧ i = .int .i64 (q : Int) ∧ ∃ z : Nat, x = .int .u32 z ∧ Hid (z = num (s.data.toList.take q)) ∧ z + 1 ≤ 16 ^ q) (fun _ i => s.size - (intOf i).toNat)
  case atStart => exact ⟨0, by omega, by simp, 0, rfl, Lib.hid rfl, by decide⟩
  case round =>
    obtain ⟨q, hqn, rfl, z, rfl, hz, hzb⟩ := hrel
    by_cases hq : q < s.size
    · have hz4 : z ≤ 65535 := by
        have : 16 ^ q ≤ 16 ^ 4 := Nat.pow_le_pow_right (by decide) (by omega)
        omega
      have hst : num (s.data.toList.take (q + 1)) = 16 * z + dig s[q] := by
        have h1 : q < s.data.toList.length := by rw [Array.length_toList]; exact hq
        rw [List.take_succ_eq_append_getElem h1, num_app, ← hz.out]
        rfl
      have hd : dig s[q] < 16 := hh.out _ (by
        have h1 : q < s.data.toList.length := by rw [Array.length_toList]; exact hq
        exact List.getElem_mem h1)
      have Hst := Lib.hid hst
      clear hst
      go_wp2_with fail
      refine (digit_prog _ _).mono ?_
      rintro e w1 ⟨rfl, rfl⟩
      generalize dig s[q] = b at *
      go_wp2_with fail
      go_round
      case rel => exact ⟨q + 1, by omega, by go_num, 16 * z + b, by rw [bits_or_hex z b (by omega) hd], Lib.hid Hst.out.symm, by rw [Nat.pow_succ]; omega⟩
      case measure => simp [intOf]; omega
    · obtain rfl : q = s.size := by omega
      go_wp2_with fail
      go_ret
      exact ⟨ret_val (by rw [hz.out, List.take_of_length_le (by rw [Array.length_toList]; exact Nat.le_refl _)]; rfl), rfl⟩

theorem cut_str (s : ByteArray) (i j : Int) (h0 : 0 ≤ i) (h1 : i ≤ j) (h2 : j ≤ s.size) : ∃ S : ByteArray, S.data.toList = (s.data.toList.drop i.toNat).take (j.toNat - i.toNat) ∧ S.size = j.toNat - i.toNat ∧
    ∀ w, (Instr.slice 9 (.string s) (some (.int .i64 i)) (some (.int .i64 j)) none).run Try.prog w = .ok (.string S) w := by
  refine ⟨s.extract i.toNat j.toNat, Lib.extract_data _ _ _, ?_, fun w => run_slice_string w 9 s .i64 .i64 i j Try.underlying9 h0 h1 h2⟩
  rw [size_of, Lib.extract_data, List.length_take, List.length_drop, ← size_of]
  omega
theorem cut_tail (s : ByteArray) (i : Int) (h0 : 0 ≤ i) (h2 : i ≤ s.size) : ∃ S : ByteArray, S.data.toList = s.data.toList.drop i.toNat ∧ S.size = s.size - i.toNat ∧
    ∀ w, (Instr.slice 9 (.string s) (some (.int .i64 i)) none none).run Try.prog w = .ok (.string S) w := by
  refine ⟨s.extract i.toNat s.size, Lib.extract_to_end _ _, ?_, fun w => run_slice_string_l (P := Try.prog) w 9 s Try.underlying9 .i64 i h0 h2⟩
  rw [size_of, Lib.extract_to_end, List.length_drop, ← size_of]

theorem character_prog (s : ByteArray) (k : Nat) (hk : k ≤ 2) (hs : 5 * k + 5 ≤ s.size) (hh : Hid (hexes ((s.data.toList.drop (5 * k)).take 5))) (w : World) :
    Calls Try.prog 28 #[.string s, .int .i64 (k : Int)] w fun e w' => e = .returned (.int .u32 (num ((s.data.toList.drop (5 * k)).take 5) : Int)) ∧ w = w' := by
  obtain ⟨S, hS, hS2, hsl⟩ := cut_str s ((k : Int) * 5) (((k : Int) + 1) * 5) (by omega) (by omega) (by omega)
  have e1 : ((k : Int) * 5).toNat = 5 * k := by omega
  have e2 : (((k : Int) + 1) * 5).toNat = 5 * k + 5 := by omega
  rw [e1, e2, Nat.add_sub_cancel_left] at hS
  rw [e1, e2, Nat.add_sub_cancel_left] at hS2
  rw [← hS] at hh ⊢
  clear hS e1 e2
  have hnum := fun w => number_prog S (by omega) hh w
  clear hh hS2
  generalize num S.data.toList = x at *
  go_enter Try.func28, Try.ntmps28
  go_wp2_with fail
  refine (hnum _).mono ?_
  rintro e w1 ⟨rfl, rfl⟩
  go_wp2_with fail
  go_ret
  exact ⟨rfl, rfl⟩

def cmp3 (a b : Nat) : Int := if a < b then -1 else if b < a then 1 else 0

end Go.Proofs.Ythkbjbbffkgpfaa
