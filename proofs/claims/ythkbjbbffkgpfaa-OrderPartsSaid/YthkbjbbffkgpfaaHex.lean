/- Rows of numbers to the base 16, plain; the document's digit, number, last. -/
import Derived.Test.YthkbjbbffkgpfaaRows
import Derived.WalkKit
import Derived.Below
import Derived.BigQuiet
import Derived.Lib.Hide
import Derived.Test.YthkbjbbffkgpfaaPi
namespace Go.Proofs.Ythkbjbbffkgpfaa
open Go.RowKit

theorem ret_val {x y : Value} (h : x = y) : Ending.returned x = .returned y := by rw [h]

def dig (b : UInt8) : Nat := if 97 ≤ b.toNat then b.toNat - 87 else (b.toNat + 208) % 256
def num (l : List UInt8) : Nat := l.foldl (fun x b => 16 * x + dig b) 0
theorem dig_le (b : UInt8) : dig b ≤ 255 := by
  have := UInt8.toNat_lt b
  unfold dig; split <;> omega
theorem num_app (l : List UInt8) (b : UInt8) : num (l ++ [b]) = 16 * num l + dig b := by
  unfold num; rw [List.foldl_append]; rfl
theorem num_le (l : List UInt8) : num l + 17 ≤ 17 * 16 ^ l.length := by
  have : ∀ (l : List UInt8) (x k : Nat), x + 17 ≤ 17 * k → l.foldl (fun x b => 16 * x + dig b) x + 17 ≤ 17 * (k * 16 ^ l.length) := fun l => by
    induction l with
    | nil => intro x k h; simpa using h
    | cons b l ih =>
      intro x k h
      have hd := dig_le b
      have := ih (16 * x + dig b) (k * 16) (by omega)
      rw [List.length_cons, Nat.pow_succ, Nat.mul_comm (16 ^ l.length) 16, ← Nat.mul_assoc k]
      exact this
  have := this l 0 1 (by decide)
  rwa [Nat.one_mul] at this

theorem digit_ref (b : UInt8) (w : World) : Calls Try.prog 30 #[.int .u8 (b.toNat : Int)] w fun e w' => e = .returned (.int .u32 (dig b : Int)) ∧ w = w' := by
  have hb := UInt8.toNat_lt b
  obtain ⟨x, hx⟩ : ∃ x, b.toNat = x := ⟨_, rfl⟩
  unfold dig
  rw [hx] at hb ⊢
  clear hx
  by_cases h : 97 ≤ x
  · rw [if_pos h]
    go_enter Try.func30, Try.ntmps30
    go_wp2
    go_ret
    exact ⟨ret_val (by show Value.int IntKind.u32 ((x : Int) - 97 + 10) = _; congr 1; omega), rfl⟩
  · rw [if_neg h]
    go_enter Try.func30, Try.ntmps30
    go_wp2
    go_ret
    exact ⟨ret_val (by show Value.int IntKind.u32 (((x : Int) - 48) % 256) = _; congr 1; omega), rfl⟩

theorem number_ref3 (s : ByteArray) (p n : Nat) (hn : n ≤ 5) (hp : p ≤ 1000000) (w : World) :
    Calls Try.prog 22 #[.string s, .int .i64 p, .int .i64 n] w fun e w' => e = .returned (.int .u32 (num ((s.data.toList.drop p).take n) : Int)) ∧ w = w' := by
  go_enter Try.func22, Try.ntmps22
  go_wp2
  go_loopw [7, 8] (fun x i wr => ∃ q : Nat, q ≤ n ∧ i = .int .i64 ((p : Int) + q) ∧ ∃ z : Nat, x = .int .u32 z ∧ Hid (z = num ((s.data.toList.drop p).take q)) ∧ z + 17 ≤ 17 * 16 ^ q ∧ w = wr) (fun _ i _ => p + n - (intOf i).toNat)
  case atStart => exact ⟨0, by omega, by simp, 0, rfl, Lib.hid rfl, by decide, rfl⟩
  case round =>
    obtain ⟨q, hqn, rfl, z, rfl, hz, hzb, rfl⟩ := hrel
    by_cases hq : q < n
    · by_cases hs : p + q < s.size
      · have hz4 : z ≤ 1114095 := by
          have : 16 ^ q ≤ 16 ^ 4 := Nat.pow_le_pow_right (by decide) (by omega)
          omega
        have hst : num ((s.data.toList.drop p).take (q + 1)) = 16 * z + dig s[p + q] := by
          have h1 : q < (s.data.toList.drop p).length := by rw [List.length_drop, Array.length_toList]; show q < s.size - p; omega
          rw [List.take_succ_eq_append_getElem h1, num_app, ← hz.out]
          congr 1
          congr 1
          rw [List.getElem_drop]; rfl
        have hd := dig_le s[p + q]
        have Hst := Lib.hid hst
        clear hst
        go_wp2_with fail
        refine (digit_ref _ _).mono ?_
        rintro e w1 ⟨rfl, rfl⟩
        generalize dig s[p + q] = b at *
        go_wp2_with fail
        go_roundw
        case rel => exact ⟨q + 1, by omega, by go_num, 16 * z + b, by go_num, Lib.hid Hst.out.symm, by rw [Nat.pow_succ]; omega, by first | rfl | trivial⟩
        case measure => simp [intOf]; omega
      · have he : (s.data.toList.drop p).take n = (s.data.toList.drop p).take q := by
          rw [List.take_of_length_le (by rw [List.length_drop, Array.length_toList]; show s.size - p ≤ n; omega), List.take_of_length_le (by rw [List.length_drop, Array.length_toList]; show s.size - p ≤ q; omega)]
        have Hz := Lib.hid (show num ((s.data.toList.drop p).take n) = z by rw [he, hz.out])
        clear he
        go_wp2_with fail
        go_ret
        exact ⟨ret_val (by rw [Hz.out]; rfl), rfl⟩
    · obtain rfl : q = n := by omega
      go_wp2_with fail
      go_ret
      exact ⟨ret_val (by rw [← hz.out]; rfl), rfl⟩

/-- The key of row i: its first five digits. -/
def key (l : List UInt8) (size i : Nat) : Nat := num ((l.drop (i * size)).take 5)
/-- What last leaves: r rows have a key that is not above c. -/
def LastP (l : List UInt8) (size c : Nat) (N r : Nat) : Prop := r ≤ N ∧ (0 < r → key l size (r - 1) ≤ c) ∧ ∀ i, r ≤ i → i < N → c < key l size i

set_option maxRecDepth 100000 in
theorem last_12 (s : ByteArray) (N : Nat) (hN : Hid (N = s.size / 12)) (hs : s.size ≤ 100000) (c : Nat) (hmono : Hid (∀ i j, i ≤ j → j < N → key s.data.toList 12 i ≤ key s.data.toList 12 j)) (w : World) :
  Calls Try.prog 21 #[.string s, .int .i64 12, .int .u32 (c : Int)] w fun e w' => ∃ r : Nat, e = .returned (.int .i64 ((r : Int) - 1)) ∧ LastP s.data.toList 12 c N r ∧ Up w w' := by
  have hN1 : N * 12 ≤ s.size := by rw [hN.out]; exact Nat.div_mul_le_self _ _
  have hNi : (s.size : Int) / 12 = (N : Int) := by rw [hN.out]; rfl
  have HNi := Lib.hid hNi
  clear hNi
  have hNi := HNi.out
  go_enter Try.func21, Try.ntmps21
  go_wp2
  go_quiet (fail)
  go_wp2
  go_loopw [7, 8] (fun lo hi wr => ∃ a b : Nat, a ≤ b ∧ b ≤ N ∧ lo = .int .i64 ((a : Int) - 1) ∧ hi = .int .i64 b ∧ Hid (0 < a → key s.data.toList 12 (a - 1) ≤ c) ∧ Hid (b < N → c < key s.data.toList 12 b) ∧ Up w wr) (fun lo hi _ => (intOf hi - intOf lo).toNat)
  case atStart => exact ⟨0, N, by omega, by omega, rfl, rfl, Lib.hid (fun h => by omega), Lib.hid (fun h => by omega), (Up.refl w).drewN _⟩
  case round =>
    obtain ⟨a, b, hab, hbN, rfl, rfl, hA, hB, hu⟩ := hrel
    clear hNi
    by_cases hgt : a < b
    · obtain ⟨m, hm⟩ : ∃ m : Nat, ((a : Int) - 1 + b) / 2 = (m : Int) := ⟨(a + b - 1) / 2, by omega⟩
      have hm1 : a ≤ m := by omega
      have hm2 : m < b := by omega
      have hnum : Calls Try.prog 22 #[.string s, .int .i64 ((m : Int) * 12), .int .i64 5] wr fun e w' => e = .returned (.int .u32 (key s.data.toList 12 m : Int)) ∧ wr = w' := number_ref3 s (m * 12) 5 (by omega) (by omega) wr
      obtain ⟨x, hx⟩ : ∃ x, key s.data.toList 12 m = x := ⟨_, rfl⟩
      rw [hx] at hnum
      have HX := Lib.hid hx
      clear hx
      by_cases hle : x ≤ c
      · go_wp2_with fail
        refine hnum.mono ?_
        rintro e w1 ⟨rfl, rfl⟩
        go_wp2_with fail
        go_roundw
        case rel => exact ⟨m + 1, b, by omega, hbN, by go_num, rfl, Lib.hid (fun _ => by show key _ 12 m ≤ c; rw [HX.out]; exact hle), hB, hu⟩
        case measure => simp only [intOf]; omega
      · go_wp2_with fail
        refine hnum.mono ?_
        rintro e w1 ⟨rfl, rfl⟩
        go_wp2_with fail
        go_roundw
        case rel => exact ⟨a, m, by omega, by omega, rfl, by go_num, hA, Lib.hid (fun _ => by rw [HX.out]; omega), hu⟩
        case measure => simp only [intOf]; omega
    · obtain rfl : a = b := by omega
      go_wp2_with fail
      go_ret
      exact ⟨a, rfl, ⟨hbN, hA.out, fun i h1 h2 => Nat.lt_of_lt_of_le (hB.out (by omega)) (hmono.out a i h1 h2)⟩, hu⟩

set_option maxRecDepth 100000 in
theorem last_15 (s : ByteArray) (N : Nat) (hN : Hid (N = s.size / 15)) (hs : s.size ≤ 100000) (c : Nat) (hmono : Hid (∀ i j, i ≤ j → j < N → key s.data.toList 15 i ≤ key s.data.toList 15 j)) (w : World) :
  Calls Try.prog 21 #[.string s, .int .i64 15, .int .u32 (c : Int)] w fun e w' => ∃ r : Nat, e = .returned (.int .i64 ((r : Int) - 1)) ∧ LastP s.data.toList 15 c N r ∧ Up w w' := by
  have hN1 : N * 15 ≤ s.size := by rw [hN.out]; exact Nat.div_mul_le_self _ _
  have hNi : (s.size : Int) / 15 = (N : Int) := by rw [hN.out]; rfl
  have HNi := Lib.hid hNi
  clear hNi
  have hNi := HNi.out
  go_enter Try.func21, Try.ntmps21
  go_wp2
  go_quiet (fail)
  go_wp2
  go_loopw [7, 8] (fun lo hi wr => ∃ a b : Nat, a ≤ b ∧ b ≤ N ∧ lo = .int .i64 ((a : Int) - 1) ∧ hi = .int .i64 b ∧ Hid (0 < a → key s.data.toList 15 (a - 1) ≤ c) ∧ Hid (b < N → c < key s.data.toList 15 b) ∧ Up w wr) (fun lo hi _ => (intOf hi - intOf lo).toNat)
  case atStart => exact ⟨0, N, by omega, by omega, rfl, rfl, Lib.hid (fun h => by omega), Lib.hid (fun h => by omega), (Up.refl w).drewN _⟩
  case round =>
    obtain ⟨a, b, hab, hbN, rfl, rfl, hA, hB, hu⟩ := hrel
    clear hNi
    by_cases hgt : a < b
    · obtain ⟨m, hm⟩ : ∃ m : Nat, ((a : Int) - 1 + b) / 2 = (m : Int) := ⟨(a + b - 1) / 2, by omega⟩
      have hm1 : a ≤ m := by omega
      have hm2 : m < b := by omega
      have hnum : Calls Try.prog 22 #[.string s, .int .i64 ((m : Int) * 15), .int .i64 5] wr fun e w' => e = .returned (.int .u32 (key s.data.toList 15 m : Int)) ∧ wr = w' := number_ref3 s (m * 15) 5 (by omega) (by omega) wr
      obtain ⟨x, hx⟩ : ∃ x, key s.data.toList 15 m = x := ⟨_, rfl⟩
      rw [hx] at hnum
      have HX := Lib.hid hx
      clear hx
      by_cases hle : x ≤ c
      · go_wp2_with fail
        refine hnum.mono ?_
        rintro e w1 ⟨rfl, rfl⟩
        go_wp2_with fail
        go_roundw
        case rel => exact ⟨m + 1, b, by omega, hbN, by go_num, rfl, Lib.hid (fun _ => by show key _ 15 m ≤ c; rw [HX.out]; exact hle), hB, hu⟩
        case measure => simp only [intOf]; omega
      · go_wp2_with fail
        refine hnum.mono ?_
        rintro e w1 ⟨rfl, rfl⟩
        go_wp2_with fail
        go_roundw
        case rel => exact ⟨a, m, by omega, by omega, rfl, by go_num, hA, Lib.hid (fun _ => by rw [HX.out]; omega), hu⟩
        case measure => simp only [intOf]; omega
    · obtain rfl : a = b := by omega
      go_wp2_with fail
      go_ret
      exact ⟨a, rfl, ⟨hbN, hA.out, fun i h1 h2 => Nat.lt_of_lt_of_le (hB.out (by omega)) (hmono.out a i h1 h2)⟩, hu⟩

set_option maxRecDepth 100000 in
theorem last_16 (s : ByteArray) (N : Nat) (hN : Hid (N = s.size / 16)) (hs : s.size ≤ 100000) (c : Nat) (hmono : Hid (∀ i j, i ≤ j → j < N → key s.data.toList 16 i ≤ key s.data.toList 16 j)) (w : World) :
  Calls Try.prog 21 #[.string s, .int .i64 16, .int .u32 (c : Int)] w fun e w' => ∃ r : Nat, e = .returned (.int .i64 ((r : Int) - 1)) ∧ LastP s.data.toList 16 c N r ∧ Up w w' := by
  have hN1 : N * 16 ≤ s.size := by rw [hN.out]; exact Nat.div_mul_le_self _ _
  have hNi : (s.size : Int) / 16 = (N : Int) := by rw [hN.out]; rfl
  have HNi := Lib.hid hNi
  clear hNi
  have hNi := HNi.out
  go_enter Try.func21, Try.ntmps21
  go_wp2
  go_quiet (fail)
  go_wp2
  go_loopw [7, 8] (fun lo hi wr => ∃ a b : Nat, a ≤ b ∧ b ≤ N ∧ lo = .int .i64 ((a : Int) - 1) ∧ hi = .int .i64 b ∧ Hid (0 < a → key s.data.toList 16 (a - 1) ≤ c) ∧ Hid (b < N → c < key s.data.toList 16 b) ∧ Up w wr) (fun lo hi _ => (intOf hi - intOf lo).toNat)
  case atStart => exact ⟨0, N, by omega, by omega, rfl, rfl, Lib.hid (fun h => by omega), Lib.hid (fun h => by omega), (Up.refl w).drewN _⟩
  case round =>
    obtain ⟨a, b, hab, hbN, rfl, rfl, hA, hB, hu⟩ := hrel
    clear hNi
    by_cases hgt : a < b
    · obtain ⟨m, hm⟩ : ∃ m : Nat, ((a : Int) - 1 + b) / 2 = (m : Int) := ⟨(a + b - 1) / 2, by omega⟩
      have hm1 : a ≤ m := by omega
      have hm2 : m < b := by omega
      have hnum : Calls Try.prog 22 #[.string s, .int .i64 ((m : Int) * 16), .int .i64 5] wr fun e w' => e = .returned (.int .u32 (key s.data.toList 16 m : Int)) ∧ wr = w' := number_ref3 s (m * 16) 5 (by omega) (by omega) wr
      obtain ⟨x, hx⟩ : ∃ x, key s.data.toList 16 m = x := ⟨_, rfl⟩
      rw [hx] at hnum
      have HX := Lib.hid hx
      clear hx
      by_cases hle : x ≤ c
      · go_wp2_with fail
        refine hnum.mono ?_
        rintro e w1 ⟨rfl, rfl⟩
        go_wp2_with fail
        go_roundw
        case rel => exact ⟨m + 1, b, by omega, hbN, by go_num, rfl, Lib.hid (fun _ => by show key _ 16 m ≤ c; rw [HX.out]; exact hle), hB, hu⟩
        case measure => simp only [intOf]; omega
      · go_wp2_with fail
        refine hnum.mono ?_
        rintro e w1 ⟨rfl, rfl⟩
        go_wp2_with fail
        go_roundw
        case rel => exact ⟨a, m, by omega, by omega, rfl, by go_num, hA, Lib.hid (fun _ => by rw [HX.out]; omega), hu⟩
        case measure => simp only [intOf]; omega
    · obtain rfl : a = b := by omega
      go_wp2_with fail
      go_ret
      exact ⟨a, rfl, ⟨hbN, hA.out, fun i h1 h2 => Nat.lt_of_lt_of_le (hB.out (by omega)) (hmono.out a i h1 h2)⟩, hu⟩

end Go.Proofs.Ythkbjbbffkgpfaa
