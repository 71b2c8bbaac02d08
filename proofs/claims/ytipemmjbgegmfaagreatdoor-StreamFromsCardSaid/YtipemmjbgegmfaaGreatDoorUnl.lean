/- Unl: one text of Hex Tab Ucr Ucs Uct Ucp Ucq. -/
import Derived.Test.YtipemmjbgegmfaaGreatDoorRows
import Derived.WalkKit
import Derived.Below
import Derived.BigQuiet
import Derived.Lib.Hide
import Derived.Test.YtipemmjbgegmfaaGreatDoorBas
import Derived.KernelRfl
import Derived.OwnWalk

/- Rows of numbers to the base 16, plain; the document's digit, number, last. -/
namespace Go.Proofs.YtipemmjbgegmfaaGreatDoor
open Go.RowKit

theorem ret_val {x y : Value} (h : x = y) : Ending.returned x = .returned y := by rw [h]

def dig (b : UInt8) : Nat := if 97 ≤ b.toNat then b.toNat - 87 else (b.toNat + 208) % 256
def num (l : List UInt8) : Nat := l.foldl (fun x b => 16 * x + dig b) 0
theorem dig_le (b : UInt8) : dig b ≤ 255 := by
  have := UInt8.toNat_lt b
  unfold dig; split <;> omega
theorem num_app (l : List UInt8) (b : UInt8) : num (l ++ [b]) = 16 * num l + dig b := by
  unfold num; rw [List.foldl_append]; rfl
theorem num_le (l : List UInt8) : num l + 17 ≤ 17 * 16 ^ l.length := by
  have : ∀ (l : List UInt8) (x k : Nat), x + 17 ≤ 17 * k → l.foldl (fun x b => 16 * x + dig b) x + 17 ≤ 17 * (k * 16 ^ l.length) := fun l => by
    induction l with
    | nil => intro x k h; simpa using h
    | cons b l ih =>
      intro x k h
      have hd := dig_le b
      have := ih (16 * x + dig b) (k * 16) (by omega)
      rw [List.length_cons, Nat.pow_succ, Nat.mul_comm (16 ^ l.length) 16, ← Nat.mul_assoc k]
      exact this
  have := this l 0 1 (by decide)
  rwa [Nat.one_mul] at this

theorem digit_ref (b : UInt8) (w : World) : Calls Tryz.prog 106 #[.int .u8 (b.toNat : Int)] w fun e w' => e = .returned (.int .u32 (dig b : Int)) ∧ w = w' := by
  have hb := UInt8.toNat_lt b
  obtain ⟨x, hx⟩ : ∃ x, b.toNat = x := ⟨_, rfl⟩
  unfold dig
  rw [hx] at hb ⊢
  clear hx
  by_cases h : 97 ≤ x
  · rw [if_pos h]
    go_enter Tryz.func106, Tryz.ntmps106
    go_wp2
    go_ret
    exact ⟨ret_val (by show Value.int IntKind.u32 ((x : Int) - 97 + 10) = _; congr 1; omega), rfl⟩
  · rw [if_neg h]
    go_enter Tryz.func106, Tryz.ntmps106
    go_wp2
    go_ret
    exact ⟨ret_val (by show Value.int IntKind.u32 (((x : Int) - 48) % 256) = _; congr 1; omega), rfl⟩

theorem number_ref3 (s : ByteArray) (p n : Nat) (hn : n ≤ 5) (hp : p ≤ 1000000) (w : World) :
    Calls Tryz.prog 84 #[.string s, .int .i64 p, .int .i64 n] w fun e w' => e = .returned (.int .u32 (num ((s.data.toList.drop p).take n) : Int)) ∧ w = w' := by
  go_enter Tryz.func84, Tryz.ntmps84
  go_wp2
  go_loopw [7, 8] (fun x i wr => ∃ q : Nat, q ≤ n ∧ i = .int .i64 ((p : Int) + q) ∧ ∃ z : Nat, x = .int .u32 z ∧ Hid (z = num ((s.data.toList.drop p).take q)) ∧ z + 17 ≤ 17 * 16 ^ q ∧ w = wr) (fun _ i _ => p + n - (intOf i).toNat)
  case atStart => exact ⟨0, by omega, by simp, 0, rfl, Lib.hid rfl, by decide, rfl⟩
  case round =>
    obtain ⟨q, hqn, rfl, z, rfl, hz, hzb, rfl⟩ := hrel
    by_cases hq : q < n
    · by_cases hs : p + q < s.size
      · have hz4 : z ≤ 1114095 := by
          have : 16 ^ q ≤ 16 ^ 4 := Nat.pow_le_pow_right (by decide) (by omega)
          omega
        have hst : num ((s.data.toList.drop p).take (q + 1)) = 16 * z + dig s[p + q] := by
          have h1 : q < (s.data.toList.drop p).length := by rw [List.length_drop, Array.length_toList]; show q < s.size - p; omega
          rw [List.take_succ_eq_append_getElem h1, num_app, ← hz.out]
          congr 1
          congr 1
          rw [List.getElem_drop]; rfl
        have hd := dig_le s[p + q]
        have Hst := Lib.hid hst
        clear hst
        go_wp2_with fail
        refine (digit_ref _ _).mono ?_
        rintro e w1 ⟨rfl, rfl⟩
        generalize dig s[p + q] = b at *
        go_wp2_with fail
        go_roundw
        case rel => exact ⟨q + 1, by omega, by go_num, 16 * z + b, by go_num, Lib.hid Hst.out.symm, by rw [Nat.pow_succ]; omega, by first | rfl | trivial⟩
        case measure => simp [intOf]; omega
      · have he : (s.data.toList.drop p).take n = (s.data.toList.drop p).take q := by
          rw [List.take_of_length_le (by rw [List.length_drop, Array.length_toList]; show s.size - p ≤ n; omega), List.take_of_length_le (by rw [List.length_drop, Array.length_toList]; show s.size - p ≤ q; omega)]
        have Hz := Lib.hid (show num ((s.data.toList.drop p).take n) = z by rw [he, hz.out])
        clear he
        go_wp2_with fail
        go_ret
        exact ⟨ret_val (by rw [Hz.out]; rfl), rfl⟩
    · obtain rfl : q = n := by omega
      go_wp2_with fail
      go_ret
      exact ⟨ret_val (by rw [← hz.out]; rfl), rfl⟩

/-- The key of row i: its first five digits. -/
def key (l : List UInt8) (size i : Nat) : Nat := num ((l.drop (i * size)).take 5)
/-- What last leaves: r rows have a key that is not above c. -/
def LastP (l : List UInt8) (size c : Nat) (N r : Nat) : Prop := r ≤ N ∧ (0 < r → key l size (r - 1) ≤ c) ∧ ∀ i, r ≤ i → i < N → c < key l size i

set_option maxRecDepth 100000 in
theorem last_12 (s : ByteArray) (N : Nat) (hN : Hid (N = s.size / 12)) (hs : s.size ≤ 100000) (c : Nat) (hmono : Hid (∀ i j, i ≤ j → j < N → key s.data.toList 12 i ≤ key s.data.toList 12 j)) (w : World) :
  Calls Tryz.prog 83 #[.string s, .int .i64 12, .int .u32 (c : Int)] w fun e w' => ∃ r : Nat, e = .returned (.int .i64 ((r : Int) - 1)) ∧ LastP s.data.toList 12 c N r ∧ Up w w' := by
  have hN1 : N * 12 ≤ s.size := by rw [hN.out]; exact Nat.div_mul_le_self _ _
  have hNi : (s.size : Int) / 12 = (N : Int) := by rw [hN.out]; rfl
  have HNi := Lib.hid hNi
  clear hNi
  have hNi := HNi.out
  go_enter Tryz.func83, Tryz.ntmps83
  go_wp2
  go_quiet (fail)
  go_wp2
  go_loopw [7, 8] (fun lo hi wr => ∃ a b : Nat, a ≤ b ∧ b ≤ N ∧ lo = .int .i64 ((a : Int) - 1) ∧ hi = .int .i64 b ∧ Hid (0 < a → key s.data.toList 12 (a - 1) ≤ c) ∧ Hid (b < N → c < key s.data.toList 12 b) ∧ Up w wr) (fun lo hi _ => (intOf hi - intOf lo).toNat)
  case atStart => exact ⟨0, N, by omega, by omega, rfl, rfl, Lib.hid (fun h => by omega), Lib.hid (fun h => by omega), (Up.refl w).drewN _⟩
  case round =>
    obtain ⟨a, b, hab, hbN, rfl, rfl, hA, hB, hu⟩ := hrel
    clear hNi
    by_cases hgt : a < b
    · obtain ⟨m, hm⟩ : ∃ m : Nat, ((a : Int) - 1 + b) / 2 = (m : Int) := ⟨(a + b - 1) / 2, by omega⟩
      have hm1 : a ≤ m := by omega
      have hm2 : m < b := by omega
      have hnum : Calls Tryz.prog 84 #[.string s, .int .i64 ((m : Int) * 12), .int .i64 5] wr fun e w' => e = .returned (.int .u32 (key s.data.toList 12 m : Int)) ∧ wr = w' := number_ref3 s (m * 12) 5 (by omega) (by omega) wr
      obtain ⟨x, hx⟩ : ∃ x, key s.data.toList 12 m = x := ⟨_, rfl⟩
      rw [hx] at hnum
      have HX := Lib.hid hx
      clear hx
      by_cases hle : x ≤ c
      · go_wp2_with fail
        refine hnum.mono ?_
        rintro e w1 ⟨rfl, rfl⟩
        go_wp2_with fail
        go_roundw
        case rel => exact ⟨m + 1, b, by omega, hbN, by go_num, rfl, Lib.hid (fun _ => by show key _ 12 m ≤ c; rw [HX.out]; exact hle), hB, hu⟩
        case measure => simp only [intOf]; omega
      · go_wp2_with fail
        refine hnum.mono ?_
        rintro e w1 ⟨rfl, rfl⟩
        go_wp2_with fail
        go_roundw
        case rel => exact ⟨a, m, by omega, by omega, rfl, by go_num, hA, Lib.hid (fun _ => by rw [HX.out]; omega), hu⟩
        case measure => simp only [intOf]; omega
    · obtain rfl : a = b := by omega
      go_wp2_with fail
      go_ret
      exact ⟨a, rfl, ⟨hbN, hA.out, fun i h1 h2 => Nat.lt_of_lt_of_le (hB.out (by omega)) (hmono.out a i h1 h2)⟩, hu⟩

set_option maxRecDepth 100000 in
theorem last_15 (s : ByteArray) (N : Nat) (hN : Hid (N = s.size / 15)) (hs : s.size ≤ 100000) (c : Nat) (hmono : Hid (∀ i j, i ≤ j → j < N → key s.data.toList 15 i ≤ key s.data.toList 15 j)) (w : World) :
  Calls Tryz.prog 83 #[.string s, .int .i64 15, .int .u32 (c : Int)] w fun e w' => ∃ r : Nat, e = .returned (.int .i64 ((r : Int) - 1)) ∧ LastP s.data.toList 15 c N r ∧ Up w w' := by
  have hN1 : N * 15 ≤ s.size := by rw [hN.out]; exact Nat.div_mul_le_self _ _
  have hNi : (s.size : Int) / 15 = (N : Int) := by rw [hN.out]; rfl
  have HNi := Lib.hid hNi
  clear hNi
  have hNi := HNi.out
  go_enter Tryz.func83, Tryz.ntmps83
  go_wp2
  go_quiet (fail)
  go_wp2
  go_loopw [7, 8] (fun lo hi wr => ∃ a b : Nat, a ≤ b ∧ b ≤ N ∧ lo = .int .i64 ((a : Int) - 1) ∧ hi = .int .i64 b ∧ Hid (0 < a → key s.data.toList 15 (a - 1) ≤ c) ∧ Hid (b < N → c < key s.data.toList 15 b) ∧ Up w wr) (fun lo hi _ => (intOf hi - intOf lo).toNat)
  case atStart => exact ⟨0, N, by omega, by omega, rfl, rfl, Lib.hid (fun h => by omega), Lib.hid (fun h => by omega), (Up.refl w).drewN _⟩
  case round =>
    obtain ⟨a, b, hab, hbN, rfl, rfl, hA, hB, hu⟩ := hrel
    clear hNi
    by_cases hgt : a < b
    · obtain ⟨m, hm⟩ : ∃ m : Nat, ((a : Int) - 1 + b) / 2 = (m : Int) := ⟨(a + b - 1) / 2, by omega⟩
      have hm1 : a ≤ m := by omega
      have hm2 : m < b := by omega
      have hnum : Calls Tryz.prog 84 #[.string s, .int .i64 ((m : Int) * 15), .int .i64 5] wr fun e w' => e = .returned (.int .u32 (key s.data.toList 15 m : Int)) ∧ wr = w' := number_ref3 s (m * 15) 5 (by omega) (by omega) wr
      obtain ⟨x, hx⟩ : ∃ x, key s.data.toList 15 m = x := ⟨_, rfl⟩
      rw [hx] at hnum
      have HX := Lib.hid hx
      clear hx
      by_cases hle : x ≤ c
      · go_wp2_with fail
        refine hnum.mono ?_
        rintro e w1 ⟨rfl, rfl⟩
        go_wp2_with fail
        go_roundw
        case rel => exact ⟨m + 1, b, by omega, hbN, by go_num, rfl, Lib.hid (fun _ => by show key _ 15 m ≤ c; rw [HX.out]; exact hle), hB, hu⟩
        case measure => simp only [intOf]; omega
      · go_wp2_with fail
        refine hnum.mono ?_
        rintro e w1 ⟨rfl, rfl⟩
        go_wp2_with fail
        go_roundw
        case rel => exact ⟨a, m, by omega, by omega, rfl, by go_num, hA, Lib.hid (fun _ => by rw [HX.out]; omega), hu⟩
        case measure => simp only [intOf]; omega
    · obtain rfl : a = b := by omega
      go_wp2_with fail
      go_ret
      exact ⟨a, rfl, ⟨hbN, hA.out, fun i h1 h2 => Nat.lt_of_lt_of_le (hB.out (by omega)) (hmono.out a i h1 h2)⟩, hu⟩

set_option maxRecDepth 100000 in
theorem last_16 (s : ByteArray) (N : Nat) (hN : Hid (N = s.size / 16)) (hs : s.size ≤ 100000) (c : Nat) (hmono : Hid (∀ i j, i ≤ j → j < N → key s.data.toList 16 i ≤ key s.data.toList 16 j)) (w : World) :
  Calls Tryz.prog 83 #[.string s, .int .i64 16, .int .u32 (c : Int)] w fun e w' => ∃ r : Nat, e = .returned (.int .i64 ((r : Int) - 1)) ∧ LastP s.data.toList 16 c N r ∧ Up w w' := by
  have hN1 : N * 16 ≤ s.size := by rw [hN.out]; exact Nat.div_mul_le_self _ _
  have hNi : (s.size : Int) / 16 = (N : Int) := by rw [hN.out]; rfl
  have HNi := Lib.hid hNi
  clear hNi
  have hNi := HNi.out
  go_enter Tryz.func83, Tryz.ntmps83
  go_wp2
  go_quiet (fail)
  go_wp2
  go_loopw [7, 8] (fun lo hi wr => ∃ a b : Nat, a ≤ b ∧ b ≤ N ∧ lo = .int .i64 ((a : Int) - 1) ∧ hi = .int .i64 b ∧ Hid (0 < a → key s.data.toList 16 (a - 1) ≤ c) ∧ Hid (b < N → c < key s.data.toList 16 b) ∧ Up w wr) (fun lo hi _ => (intOf hi - intOf lo).toNat)
  case atStart => exact ⟨0, N, by omega, by omega, rfl, rfl, Lib.hid (fun h => by omega), Lib.hid (fun h => by omega), (Up.refl w).drewN _⟩
  case round =>
    obtain ⟨a, b, hab, hbN, rfl, rfl, hA, hB, hu⟩ := hrel
    clear hNi
    by_cases hgt : a < b
    · obtain ⟨m, hm⟩ : ∃ m : Nat, ((a : Int) - 1 + b) / 2 = (m : Int) := ⟨(a + b - 1) / 2, by omega⟩
      have hm1 : a ≤ m := by omega
      have hm2 : m < b := by omega
      have hnum : Calls Tryz.prog 84 #[.string s, .int .i64 ((m : Int) * 16), .int .i64 5] wr fun e w' => e = .returned (.int .u32 (key s.data.toList 16 m : Int)) ∧ wr = w' := number_ref3 s (m * 16) 5 (by omega) (by omega) wr
      obtain ⟨x, hx⟩ : ∃ x, key s.data.toList 16 m = x := ⟨_, rfl⟩
      rw [hx] at hnum
      have HX := Lib.hid hx
      clear hx
      by_cases hle : x ≤ c
      · go_wp2_with fail
        refine hnum.mono ?_
        rintro e w1 ⟨rfl, rfl⟩
        go_wp2_with fail
        go_roundw
        case rel => exact ⟨m + 1, b, by omega, hbN, by go_num, rfl, Lib.hid (fun _ => by show key _ 16 m ≤ c; rw [HX.out]; exact hle), hB, hu⟩
        case measure => simp only [intOf]; omega
      · go_wp2_with fail
        refine hnum.mono ?_
        rintro e w1 ⟨rfl, rfl⟩
        go_wp2_with fail
        go_roundw
        case rel => exact ⟨a, m, by omega, by omega, rfl, by go_num, hA, Lib.hid (fun _ => by rw [HX.out]; omega), hu⟩
        case measure => simp only [intOf]; omega
    · obtain rfl : a = b := by omega
      go_wp2_with fail
      go_ret
      exact ⟨a, rfl, ⟨hbN, hA.out, fun i h1 h2 => Nat.lt_of_lt_of_le (hB.out (by omega)) (hmono.out a i h1 h2)⟩, hu⟩

end Go.Proofs.YtipemmjbgegmfaaGreatDoor

/- The characters' tables, out of the program itself. -/
namespace Go.Proofs.YtipemmjbgegmfaaGreatDoor
open Go.RowKit

def strOf : Value → ByteArray
  | .string s => s
  | _ => .empty
def argC (o : Option Oper) (k : Nat) : Value := match o with
  | some o => match o.op with
    | .call c => match c.args[k]? with
      | some (.const v) => v
      | _ => .int .i64 0
    | _ => .int .i64 0
  | none => .int .i64 0
def argV (f : Func) : Value := match f.body with
  | some (.seq _ (.seq (.region _ ops _) _)) => argC (ops[1]?) 0
  | some (.seq _ (.seq (.seq (.region _ ops _) _) _)) => argC (ops[1]?) 0
  | _ => .int .i64 0
noncomputable def clsS : ByteArray := strOf (argV Tryz.f67)
noncomputable def decS : ByteArray := strOf (argV Tryz.f85)

noncomputable def parS : ByteArray := strOf (argV Tryz.f104)
/- A seat without pairs: as many rows of noughts. -/

/-- The keys of all rows, in one pass. -/
def keys : Nat → Nat → List UInt8 → List Nat
  | 0, _, _ => []
  | n + 1, size, l => num (l.take 5) :: keys n size (l.drop size)
def rising : List Nat → Bool
  | a :: b :: r => Nat.blt a b && rising (b :: r)
  | _ => true

theorem cls_size : clsS.data.toList.length = 4656 := by kernel_rfl
theorem dec_size : decS.data.toList.length = 32976 := by kernel_rfl
theorem cls_rising : rising (keys 388 12 clsS.data.toList) = true := by kernel_rfl
/-- All pairs, in one pass, as one number each. -/
def pairs : Nat → List UInt8 → List Nat
  | 0, _ => []
  | n + 1, l => (num (l.take 5) * 16777216 + num ((l.drop 5).take 5)) :: pairs n (l.drop 15)
theorem par_size : parS.data.toList.length = 14115 := by kernel_rfl
theorem par_rising : rising (pairs 941 parS.data.toList) = true := by kernel_rfl
theorem dec_rising : rising (keys 2061 16 decS.data.toList) = true := by kernel_rfl


/-- The number at a place of row i. -/
def fld (l : List UInt8) (size i o n : Nat) : Nat := num ((l.drop (i * size + o)).take n)
theorem key_fld (l : List UInt8) (size i : Nat) : key l size i = fld l size i 0 5 := by unfold key fld; rw [Nat.add_zero]

theorem keys_get (size : Nat) : ∀ (n : Nat) (l : List UInt8) (i : Nat), i < n → (keys n size l)[i]? = some (key l size i)
  | 0, _, _, h => absurd h (Nat.not_lt_zero _)
  | n + 1, l, 0, _ => by simp [keys, key]
  | n + 1, l, i + 1, h => by
    rw [keys, List.getElem?_cons_succ, keys_get size n (l.drop size) i (by omega)]
    unfold key
    rw [List.drop_drop, Nat.succ_mul, Nat.add_comm]
theorem rising_le : ∀ (L : List Nat), rising L = true → ∀ (i j a b : Nat), i < j → L[i]? = some a → L[j]? = some b → a < b
  | [], _, i, j, a, b, _, ha, _ => by simp at ha
  | [x], _, i, j, a, b, hij, ha, hb => by
    have h1 := (List.getElem?_eq_some_iff.1 hb).1
    simp at h1; omega
  | x :: y :: L, h, i, j, a, b, hij, ha, hb => by
    unfold rising at h
    rw [Bool.and_eq_true] at h
    have hxy : x < y := by simpa [Nat.blt_eq] using h.1
    match i, j, hij with
    | 0, 1, _ =>
      simp at ha hb; omega
    | 0, j + 2, _ =>
      simp only [List.getElem?_cons_zero, Option.some.injEq] at ha
      rw [List.getElem?_cons_succ] at hb
      have := rising_le (y :: L) h.2 0 (j + 1) y b (by omega) (by simp) hb
      omega
    | i + 1, j + 1, hij =>
      rw [List.getElem?_cons_succ] at ha hb
      exact rising_le (y :: L) h.2 i j a b (by omega) ha hb
theorem key_lt {l : List UInt8} {size N : Nat} (h : rising (keys N size l) = true) {i j : Nat} (hij : i < j) (hj : j < N) : key l size i < key l size j :=
  rising_le _ h i j _ _ hij (keys_get size N l i (by omega)) (keys_get size N l j hj)
theorem key_le {l : List UInt8} {size N : Nat} (h : rising (keys N size l) = true) (i j : Nat) (hij : i ≤ j) (hj : j < N) : key l size i ≤ key l size j := by
  by_cases e : i = j
  · subst e; exact Nat.le_refl _
  · exact Nat.le_of_lt (key_lt h (by omega) hj)

/-- How many rows have a key that is not above c. -/
def rank (l : List UInt8) (size c : Nat) : Nat → Nat
  | 0 => 0
  | n + 1 => if key l size n ≤ c then n + 1 else rank l size c n
theorem rank_last {l : List UInt8} {size N : Nat} (_h : rising (keys N size l) = true) (c : Nat) : LastP l size c N (rank l size c N) := by
  have : ∀ n, n ≤ N → LastP l size c n (rank l size c n) := fun n => by
    induction n with
    | zero => intro _; exact ⟨Nat.le_refl _, fun h => absurd h (by unfold rank; omega), fun i _ h => absurd h (Nat.not_lt_zero _)⟩
    | succ n ih =>
      intro hn
      unfold rank
      by_cases hk : key l size n ≤ c
      · rw [if_pos hk]
        exact ⟨Nat.le_refl _, fun _ => hk, fun i h1 h2 => by omega⟩
      · rw [if_neg hk]
        obtain ⟨h1, h2, h3⟩ := ih (by omega)
        refine ⟨by omega, h2, fun i h4 h5 => ?_⟩
        by_cases e : i = n
        · subst e; omega
        · exact h3 i h4 (by omega)
  exact this N (Nat.le_refl _)
theorem last_uniq {l : List UInt8} {size N c r r' : Nat} (h : LastP l size c N r) (h' : LastP l size c N r') : r = r' := by
  obtain ⟨a1, a2, a3⟩ := h
  obtain ⟨b1, b2, b3⟩ := h'
  refine Decidable.byContradiction fun hne => ?_
  by_cases hlt : r < r'
  · have := a3 (r' - 1) (by omega) (by omega)
    have := b2 (by omega)
    omega
  · have := b3 (r - 1) (by omega) (by omega)
    have := a2 (by omega)
    omega

noncomputable def parL : List UInt8 := parS.data.toList
noncomputable def clsL : List UInt8 := clsS.data.toList
noncomputable def decL : List UInt8 := decS.data.toList
/-- A character's class. -/
noncomputable def clsOf (c : Nat) : Nat := if rank clsL 12 c 388 = 0 then 0 else if fld clsL 12 (rank clsL 12 c 388 - 1) 5 5 < c then 0 else fld clsL 12 (rank clsL 12 c 388 - 1) 10 2
/-- The row of a character that is decomposed, and one more; 0: there is none. -/
noncomputable def rowOf (c : Nat) : Nat := if rank decL 16 c 2061 = 0 ∨ key decL 16 (rank decL 16 c 2061 - 1) ≠ c then 0 else rank decL 16 c 2061

theorem pairs_get : ∀ (n : Nat) (l : List UInt8) (i : Nat), i < n → (pairs n l)[i]? = some (key l 15 i * 16777216 + fld l 15 i 5 5)
  | 0, _, _, h => absurd h (Nat.not_lt_zero _)
  | n + 1, l, 0, _ => by simp [pairs, key, fld]
  | n + 1, l, i + 1, h => by
    rw [pairs, List.getElem?_cons_succ, pairs_get n (l.drop 15) i (by omega)]
    unfold key fld
    rw [List.drop_drop, List.drop_drop, Nat.succ_mul, Nat.add_comm (i * 15) 15, Nat.add_assoc, ← Nat.add_assoc 15]
theorem fld5_lt (l : List UInt8) (size i o : Nat) : fld l size i o 5 < 16777216 * 2 := by
  unfold fld
  have h := num_le ((l.drop (i * size + o)).take 5)
  have h2 : ((l.drop (i * size + o)).take 5).length ≤ 5 := by rw [List.length_take]; omega
  have h3 : 16 ^ ((l.drop (i * size + o)).take 5).length ≤ 16 ^ 5 := Nat.pow_le_pow_right (by decide) h2
  omega
theorem pair_lt {l : List UInt8} {N : Nat} (h : rising (pairs N l) = true) {i j : Nat} (hij : i < j) (hj : j < N) : key l 15 i * 16777216 + fld l 15 i 5 5 < key l 15 j * 16777216 + fld l 15 j 5 5 :=
  rising_le _ h i j _ _ hij (pairs_get N l i (by omega)) (pairs_get N l j hj)

end Go.Proofs.YtipemmjbgegmfaaGreatDoor

/- The document's Class, row, Decomp, Composes. -/
namespace Go.Proofs.YtipemmjbgegmfaaGreatDoor
open Go.RowKit

theorem size_of (s : ByteArray) : s.size = s.data.toList.length := by rw [Array.length_toList]; rfl
theorem cls_sz : clsS.size = 4656 := by rw [size_of]; exact cls_size
theorem dec_sz : decS.size = 32976 := by rw [size_of]; exact dec_size

theorem num_at (S : ByteArray) (size : Nat) (k o n : Nat) (hn : n ≤ 5) (hp : k * size + o ≤ 1000000) (w : World) (p : Int) (hpi : p = ((k * size + o : Nat) : Int)) (m : Int) (hm : m = (n : Int)) :
    Calls Tryz.prog 84 #[.string S, .int .i64 p, .int .i64 m] w fun e w' => e = .returned (.int .u32 (fld S.data.toList size k o n : Int)) ∧ w = w' := by
  subst hpi hm
  exact number_ref3 S (k * size + o) n hn hp w

set_option maxRecDepth 100000 in
theorem class_ref (c : Nat) (w : World) : Calls Tryz.prog 67 #[.int .u32 (c : Int)] w fun e w' => e = .returned (.int .i64 (clsOf c : Int)) ∧ Up w w' := by
  have hla := last_12 clsS 388 (Lib.hid (by rw [cls_sz])) (by rw [cls_sz]; decide) c (Lib.hid (key_le cls_rising)) w
  have hrk := rank_last cls_rising c
  obtain ⟨rk, hk⟩ : ∃ rk, rank clsL 12 c 388 = rk := ⟨_, rfl⟩
  have hv : clsOf c = if rk = 0 then 0 else if fld clsL 12 (rk - 1) 5 5 < c then 0 else fld clsL 12 (rk - 1) 10 2 := by unfold clsOf; rw [hk]
  unfold clsL at hk hv
  rw [hk] at hrk
  have hr388 := hrk.1
  have n1 := fun (k : Nat) (hk : k ≤ 388) (w' : World) => num_at clsS 12 k 5 5 (by omega) (by omega) w' (12 * (k : Int) + 5) (by omega) 5 rfl
  have n2 := fun (k : Nat) (hk : k ≤ 388) (w' : World) => num_at clsS 12 k 10 2 (by omega) (by omega) w' (12 * (k : Int) + 10) (by omega) 2 rfl
  have HLA := Lib.hid hla
  have HRK := Lib.hid hrk
  have N1 := Lib.hid n1
  have N2 := Lib.hid n2
  clear hla hrk n1 n2 hk
  cases rk with
  | zero =>
    rw [hv, if_pos rfl]
    clear hv
    go_enter Tryz.func67, Tryz.ntmps67
    conv in (occs := *) (Value.string _) => all_goals change Value.string clsS
    generalize clsS = S at *
    go_wp2_with fail
    refine HLA.out.mono ?_
    rintro e w1 ⟨r, rfl, hL, hu⟩
    obtain rfl := last_uniq hL HRK.out
    rw [show ((0 : Nat) : Int) - 1 = -1 from rfl]
    go_wp2_with fail
    go_ret
    exact ⟨rfl, hu⟩
  | succ k =>
    rw [if_neg (Nat.succ_ne_zero k), Nat.add_sub_cancel] at hv
    rw [hv]
    clear hv
    obtain ⟨x, hx⟩ : ∃ x, fld clsS.data.toList 12 k 5 5 = x := ⟨_, rfl⟩
    obtain ⟨y, hy⟩ : ∃ y, fld clsS.data.toList 12 k 10 2 = y := ⟨_, rfl⟩
    have m1 := fun (w' : World) => N1.out k (by omega) w'
    have m2 := fun (w' : World) => N2.out k (by omega) w'
    have hyb : y ≤ 4335 := by rw [← hy]; have := num_le ((clsS.data.toList.drop (k * 12 + 10)).take 2); have h2 : ((clsS.data.toList.drop (k * 12 + 10)).take 2).length ≤ 2 := by rw [List.length_take]; omega
                              have h3 : 16 ^ ((clsS.data.toList.drop (k * 12 + 10)).take 2).length ≤ 16 ^ 2 := Nat.pow_le_pow_right (by decide) h2
                              unfold fld; omega
    rw [hx] at m1 ⊢
    rw [hy] at m2 ⊢
    clear hx hy N1 N2
    by_cases hlt : x < c
    · rw [if_pos hlt]
      go_enter Tryz.func67, Tryz.ntmps67
      conv in (occs := *) (Value.string _) => all_goals change Value.string clsS
      generalize clsS = S at *
      go_wp2_with fail
      refine HLA.out.mono ?_
      rintro e w1 ⟨r, rfl, hL, hu⟩
      obtain rfl := last_uniq hL HRK.out
      rw [show ((k + 1 : Nat) : Int) - 1 = (k : Int) by omega]
      go_wp2_with fail
      refine (m1 _).mono ?_
      rintro e w2 ⟨rfl, rfl⟩
      go_wp2_with fail
      go_ret
      exact ⟨rfl, hu⟩
    · rw [if_neg hlt]
      go_enter Tryz.func67, Tryz.ntmps67
      conv in (occs := *) (Value.string _) => all_goals change Value.string clsS
      generalize clsS = S at *
      go_wp2_with fail
      refine HLA.out.mono ?_
      rintro e w1 ⟨r, rfl, hL, hu⟩
      obtain rfl := last_uniq hL HRK.out
      rw [show ((k + 1 : Nat) : Int) - 1 = (k : Int) by omega]
      go_wp2_with fail
      refine (m1 _).mono ?_
      rintro e w2 ⟨rfl, rfl⟩
      go_wp2_with fail
      refine (m2 _).mono ?_
      rintro e w3 ⟨rfl, rfl⟩
      go_wp2_with fail
      go_ret
      exact ⟨rfl, hu⟩

/-- What row answers. -/
noncomputable def rowI (c : Nat) : Int := if rowOf c = 0 then -1 else 16 * ((rowOf c - 1 : Nat) : Int)

theorem fld_le (l : List UInt8) (size i o n : Nat) (hn : n ≤ 5) : fld l size i o n ≤ 17825775 := by
  unfold fld
  have h := num_le ((l.drop (i * size + o)).take n)
  have h2 : ((l.drop (i * size + o)).take n).length ≤ 5 := by rw [List.length_take]; omega
  have h3 : 16 ^ ((l.drop (i * size + o)).take n).length ≤ 16 ^ 5 := Nat.pow_le_pow_right (by decide) h2
  omega

set_option maxRecDepth 100000 in
theorem row_ref (c : Nat) (w : World) : Calls Tryz.prog 85 #[.int .u32 (c : Int)] w fun e w' => e = .returned (.int .i64 (rowI c)) ∧ Up w w' := by
  have hla := last_16 decS 2061 (Lib.hid (by rw [dec_sz])) (by rw [dec_sz]; decide) c (Lib.hid (key_le dec_rising)) w
  have hrk := rank_last dec_rising c
  obtain ⟨rk, hk⟩ : ∃ rk, rank decL 16 c 2061 = rk := ⟨_, rfl⟩
  have hv : rowOf c = if rk = 0 ∨ key decL 16 (rk - 1) ≠ c then 0 else rk := by unfold rowOf; rw [hk]
  unfold decL at hk hv
  rw [hk] at hrk
  have hr := hrk.1
  have n1 := fun (k : Nat) (hk : k ≤ 2061) (w' : World) => num_at decS 16 k 0 5 (by omega) (by omega) w' (16 * (k : Int)) (by omega) 5 rfl
  have HLA := Lib.hid hla
  have HRK := Lib.hid hrk
  have N1 := Lib.hid n1
  clear hla hrk n1 hk
  unfold rowI
  cases rk with
  | zero =>
    rw [if_pos (.inl rfl)] at hv
    rw [hv, if_pos rfl]
    clear hv
    go_enter Tryz.func85, Tryz.ntmps85
    conv in (occs := *) (Value.string _) => all_goals change Value.string decS
    generalize decS = S at *
    go_wp2_with fail
    refine HLA.out.mono ?_
    rintro e w1 ⟨r, rfl, hL, hu⟩
    obtain rfl := last_uniq hL HRK.out
    rw [show ((0 : Nat) : Int) - 1 = -1 from rfl]
    go_wp2_with fail
    go_ret
    exact ⟨rfl, hu⟩
  | succ k =>
    have m1 := fun (w' : World) => N1.out k (by omega) w'
    have hky : key decS.data.toList 16 k = fld decS.data.toList 16 k 0 5 := key_fld _ _ _
    rw [Nat.add_sub_cancel, hky] at hv
    have hle := fld_le decS.data.toList 16 k 0 5 (by omega)
    obtain ⟨x, hx⟩ : ∃ x, fld decS.data.toList 16 k 0 5 = x := ⟨_, rfl⟩
    rw [hx] at hv hle
    simp only [hx] at m1
    clear hx hky N1
    by_cases hxc : x = c
    · subst hxc
      rw [if_neg (by omega)] at hv
      rw [hv, if_neg (Nat.succ_ne_zero k), Nat.add_sub_cancel]
      clear hv
      go_enter Tryz.func85, Tryz.ntmps85
      conv in (occs := *) (Value.string _) => all_goals change Value.string decS
      generalize decS = S at *
      go_wp2_with fail
      refine HLA.out.mono ?_
      rintro e w1 ⟨r, rfl, hL, hu⟩
      obtain rfl := last_uniq hL HRK.out
      rw [show ((k + 1 : Nat) : Int) - 1 = (k : Int) by omega]
      go_wp2_with fail
      refine (m1 _).mono ?_
      rintro e w2 ⟨rfl, rfl⟩
      go_wp2_with fail
      go_ret
      exact ⟨rfl, hu⟩
    · rw [if_pos (.inr hxc)] at hv
      rw [hv, if_pos rfl]
      clear hv
      have hne : ((x : Int) != (c : Int)) = true := by simp; omega
      go_enter Tryz.func85, Tryz.ntmps85
      conv in (occs := *) (Value.string _) => all_goals change Value.string decS
      generalize decS = S at *
      go_wp2_with fail
      refine HLA.out.mono ?_
      rintro e w1 ⟨r, rfl, hL, hu⟩
      obtain rfl := last_uniq hL HRK.out
      rw [show ((k + 1 : Nat) : Int) - 1 = (k : Int) by omega]
      go_wp2_with fail
      refine (m1 _).mono ?_
      rintro e w2 ⟨rfl, rfl⟩
      go_wp2_with fail
      go_ret
      exact ⟨rfl, hu⟩

end Go.Proofs.YtipemmjbgegmfaaGreatDoor

/- The document's Decomp, Composes, Second, Pair, Quickly, Starts. -/
namespace Go.Proofs.YtipemmjbgegmfaaGreatDoor
open Go.RowKit

noncomputable def decA (c : Nat) : Nat := if rowOf c = 0 then 0 else fld decL 16 (rowOf c - 1) 5 5
noncomputable def decB (c : Nat) : Nat := if rowOf c = 0 then 0 else fld decL 16 (rowOf c - 1) 10 5
noncomputable def decOk (c : Nat) : Bool := decide (rowOf c ≠ 0)

theorem rowOf_le (c : Nat) : rowOf c ≤ 2061 := by
  unfold rowOf
  split
  · exact Nat.zero_le _
  · exact (rank_last dec_rising c).1

set_option maxRecDepth 100000 in
theorem decomp_ref (c : Nat) (w : World) : Calls Tryz.prog 131 #[.int .u32 (c : Int)] w fun e w' => e = .returned (.tuple #[.int .u32 (decA c : Int), .int .u32 (decB c : Int), .bool (decOk c)]) ∧ Up w w' := by
  have hro := row_ref c w
  have hle := rowOf_le c
  unfold decA decB decOk decL rowI at *
  obtain ⟨r, hr⟩ : ∃ r, rowOf c = r := ⟨_, rfl⟩
  rw [hr] at hro hle ⊢
  clear hr
  have n1 := fun (k : Nat) (hk : k ≤ 2061) (w' : World) => num_at decS 16 k 5 5 (by omega) (by omega) w' (16 * (k : Int) + 5) (by omega) 5 rfl
  have n2 := fun (k : Nat) (hk : k ≤ 2061) (w' : World) => num_at decS 16 k 10 5 (by omega) (by omega) w' (16 * (k : Int) + 10) (by omega) 5 rfl
  cases r with
  | zero =>
    simp only [if_pos] at hro
    clear n1 n2
    go_enter Tryz.func131, Tryz.ntmps131
    conv in (occs := *) (Value.string _) => all_goals change Value.string decS
    generalize decS = S at *
    go_wp2_with fail
    refine hro.mono ?_
    rintro e w1 ⟨rfl, hu⟩
    go_wp2_with fail
    go_ret3
    exact ⟨rfl, hu⟩
  | succ k =>
    rw [if_neg (Nat.succ_ne_zero k), Nat.add_sub_cancel] at hro
    simp only [if_neg (Nat.succ_ne_zero k), Nat.add_sub_cancel]
    have m1 := n1 k (by omega)
    have m2 := n2 k (by omega)
    obtain ⟨x, hx⟩ : ∃ x, fld decS.data.toList 16 k 5 5 = x := ⟨_, rfl⟩
    obtain ⟨y, hy⟩ : ∃ y, fld decS.data.toList 16 k 10 5 = y := ⟨_, rfl⟩
    rw [hx, hy]
    simp only [hx] at m1
    simp only [hy] at m2
    clear hx hy n1 n2
    go_enter Tryz.func131, Tryz.ntmps131
    conv in (occs := *) (Value.string _) => all_goals change Value.string decS
    generalize decS = S at *
    go_wp2_with fail
    refine hro.mono ?_
    rintro e w1 ⟨rfl, hu⟩
    go_wp2_with fail
    refine (m1 _).mono ?_
    rintro e w2 ⟨rfl, rfl⟩
    go_wp2_with fail
    refine (m2 _).mono ?_
    rintro e w3 ⟨rfl, rfl⟩
    go_wp2_with fail
    go_ret3
    exact ⟨by simp, hu⟩

/-- Is a character composed again? -/
noncomputable def cmpOf (c : Nat) : Bool := decide (rowOf c ≠ 0) && decide (decL[(rowOf c - 1) * 16 + 15]? = some 99)

set_option maxRecDepth 100000 in
theorem composes_ref (c : Nat) (w : World) : Calls Tryz.prog 86 #[.int .u32 (c : Int)] w fun e w' => e = .returned (.bool (cmpOf c)) ∧ Up w w' := by
  have hro := row_ref c w
  have hle := rowOf_le c
  have hsz := dec_sz
  unfold cmpOf decL rowI at *
  obtain ⟨r, hr⟩ : ∃ r, rowOf c = r := ⟨_, rfl⟩
  rw [hr] at hro hle ⊢
  clear hr
  cases r with
  | zero =>
    simp only [if_pos] at hro
    go_enter Tryz.func86, Tryz.ntmps86
    conv in (occs := *) (Value.string _) => all_goals change Value.string decS
    generalize decS = S at *
    go_wp2_with fail
    refine hro.mono ?_
    rintro e w1 ⟨rfl, hu⟩
    go_wp2_with fail
    go_ret
    exact ⟨rfl, hu⟩
  | succ k =>
    rw [if_neg (Nat.succ_ne_zero k), Nat.add_sub_cancel] at hro
    rw [Nat.add_sub_cancel]
    have hk : k * 16 + 15 < decS.size := by rw [hsz]; omega
    have hget : decS.data.toList[k * 16 + 15]? = some decS[k * 16 + 15] := by
      rw [List.getElem?_eq_getElem (by rw [← size_of]; exact hk)]
      rfl
    rw [hget]
    have hk2 : 16 * k + 15 < decS.size := by omega
    have hb : decS[k * 16 + 15] = decS[16 * k + 15] := by congr 1; omega
    rw [hb]
    clear hget hb hk hsz
    have hi : ∀ (h : (16 * (k : Int) + 15).toNat < decS.size), decS[(16 * (k : Int) + 15).toNat] = decS[16 * k + 15] := fun h => by congr 1
    obtain ⟨y, hy⟩ : ∃ y, decS[16 * k + 15] = y := ⟨_, rfl⟩
    simp only [hy] at hi ⊢
    clear hy
    have hI : (0 ≤ 16 * (k : Int) + 15 ∧ 16 * (k : Int) + 15 < (decS.size : Int)) := by omega
    clear hk2
    have hy99 : decide (some y = some 99) = ((y.toNat : Int) == 99) := by
      rw [Bool.eq_iff_iff]
      simp only [decide_eq_true_eq, Option.some.injEq, beq_iff_eq]
      constructor
      · rintro rfl; rfl
      · intro h; exact UInt8.toNat_inj.1 (by show y.toNat = 99; omega)
    rw [hy99]
    clear hy99
    go_enter Tryz.func86, Tryz.ntmps86
    conv in (occs := *) (Value.string _) => all_goals change Value.string decS
    generalize decS = S at *
    go_wp2_with fail
    refine hro.mono ?_
    rintro e w1 ⟨rfl, hu⟩
    obtain ⟨hI1, hI2⟩ := hI
    go_wp2_with fail
    go_ret
    exact ⟨by simp, hu⟩

end Go.Proofs.YtipemmjbgegmfaaGreatDoor

/- The document's Second. -/
namespace Go.Proofs.YtipemmjbgegmfaaGreatDoor
open Go.RowKit

theorem par_sz : parS.size = 14115 := by rw [size_of]; exact par_size
/-- All second ones, in one pass. -/
def seconds : Nat → List UInt8 → List Nat
  | 0, _ => []
  | n + 1, l => num ((l.drop 5).take 5) :: seconds n (l.drop 15)
theorem seconds_get : ∀ (n : Nat) (l : List UInt8) (i : Nat), i < n → (seconds n l)[i]? = some (fld l 15 i 5 5)
  | 0, _, _, h => absurd h (Nat.not_lt_zero _)
  | n + 1, l, 0, _ => by simp [seconds, fld]
  | n + 1, l, i + 1, h => by
    rw [seconds, List.getElem?_cons_succ, seconds_get n (l.drop 15) i (by omega)]
    unfold fld
    rw [List.drop_drop, Nat.succ_mul, Nat.add_comm (i * 15) 15, Nat.add_assoc]
theorem seconds_len : ∀ (n : Nat) (l : List UInt8), (seconds n l).length = n
  | 0, _ => rfl
  | n + 1, l => by rw [seconds, List.length_cons, seconds_len n]
theorem seconds_in : (seconds 941 parS.data.toList).all (fun x => Nat.ble 768 x && Nat.ble x 71984) = true := by kernel_rfl

/-- Is a character some row's second one? -/
noncomputable def isSec (c : Nat) : Bool := (seconds 941 parL).any (fun x => x == c)
def hanV (c : Nat) : Bool := (decide (4449 ≤ c) && decide (c ≤ 4469)) || (decide (4520 ≤ c) && decide (c ≤ 4546))
noncomputable def secOf (c : Nat) : Bool := hanV c || isSec c
theorem isSec_iff (c : Nat) : isSec c = true ↔ ∃ i, i < 941 ∧ fld parL 15 i 5 5 = c := by
  unfold isSec
  rw [List.any_eq_true]
  constructor
  · rintro ⟨x, hx, he⟩
    obtain ⟨i, hi⟩ := List.getElem?_of_mem hx
    have hl := (List.getElem?_eq_some_iff.1 hi).1
    rw [seconds_len] at hl
    rw [seconds_get 941 parL i hl] at hi
    exact ⟨i, hl, by rw [Option.some.inj hi]; exact eq_of_beq he⟩
  · rintro ⟨i, hi, rfl⟩
    exact ⟨_, List.mem_of_getElem? (seconds_get 941 parL i hi), by simp⟩
theorem isSec_range (c : Nat) (h : isSec c = true) : 768 ≤ c ∧ c ≤ 71984 := by
  obtain ⟨i, hi, rfl⟩ := (isSec_iff c).1 h
  have := List.all_eq_true.1 seconds_in _ (List.mem_of_getElem? (seconds_get 941 parS.data.toList i hi))
  rw [Bool.and_eq_true, Nat.ble_eq, Nat.ble_eq] at this
  exact this

set_option maxRecDepth 100000 in
set_option maxHeartbeats 2000000 in
theorem second_ref (c : Nat) (w : World) : Calls Tryz.prog 87 #[.int .u32 (c : Int)] w fun e w' => e = .returned (.bool (secOf c)) ∧ Up w w' := by
  have hsz := par_sz
  have hiff := isSec_iff c
  have hrg := isSec_range c
  unfold secOf
  obtain ⟨s, hs⟩ : ∃ s, isSec c = s := ⟨_, rfl⟩
  rw [hs] at hiff hrg ⊢
  clear hs
  unfold hanV
  unfold parL at hiff
  have n1 := fun (k : Nat) (hk : k < 941) (w' : World) => num_at parS 15 k 5 5 (by omega) (by omega) w' (15 * (k : Int) + 5) (by omega) 5 rfl
  have Hiff := Lib.hid hiff
  have Hrg := Lib.hid hrg
  have N1 := Lib.hid n1
  clear hiff hrg n1 hsz
  by_cases h1 : 4449 ≤ c ∧ c ≤ 4469
  · obtain ⟨h1, h2⟩ := h1
    clear N1 Hrg Hiff
    go_enter Tryz.func87, Tryz.ntmps87
    conv in (occs := *) (Value.string _) => all_goals change Value.string parS
    generalize parS = S at *
    go_wp2
    go_ret
    exact ⟨by simp, Up.refl _⟩
  · have hA : (decide (4449 ≤ c) && decide (c ≤ 4469)) = false := by rw [Bool.and_eq_false_iff]; simp only [decide_eq_false_iff_not]; omega
    rw [hA]
    clear hA
    by_cases h2 : 4520 ≤ c ∧ c ≤ 4546
    · obtain ⟨h2, h3⟩ := h2
      have h4 : 4469 < c := by omega
      have h5 : 4449 ≤ c := by omega
      clear N1 Hrg Hiff h1
      go_enter Tryz.func87, Tryz.ntmps87
      conv in (occs := *) (Value.string _) => all_goals change Value.string parS
      generalize parS = S at *
      go_wp2
      go_ret
      exact ⟨by simp [h2, h3], Up.refl _⟩
    · have hB : (decide (4520 ≤ c) && decide (c ≤ 4546)) = false := by rw [Bool.and_eq_false_iff]; simp only [decide_eq_false_iff_not]; omega
      rw [hB]
      clear hB
      have e : (false || false || s) = s := rfl
      rw [e]
      clear e
      by_cases h3 : c < 768
      · cases s with
        | true => have := Hrg.out rfl; omega
        | false =>
          have h4 : c < 4449 := by omega
          have h5 : c < 4520 := by omega
          clear N1 Hrg Hiff h1 h2
          go_enter Tryz.func87, Tryz.ntmps87
          conv in (occs := *) (Value.string _) => all_goals change Value.string parS
          generalize parS = S at *
          go_wp2
          go_ret
          exact ⟨rfl, Up.refl _⟩
      · by_cases h4 : 71984 < c
        · cases s with
          | true => have := Hrg.out rfl; omega
          | false =>
            have h5 : 4469 < c := by omega
            have h6 : 4546 < c := by omega
            have h7 : 4449 ≤ c := by omega
            have h8 : 4520 ≤ c := by omega
            clear N1 Hrg Hiff h1 h2
            go_enter Tryz.func87, Tryz.ntmps87
            conv in (occs := *) (Value.string _) => all_goals change Value.string parS
            generalize parS = S at *
            go_wp2
            go_ret
            exact ⟨rfl, Up.refl _⟩
        · clear Hrg
          have hlo : c < 4449 ∨ (4449 ≤ c ∧ 4469 < c ∧ c < 4520) ∨ (4449 ≤ c ∧ 4469 < c ∧ 4520 ≤ c ∧ 4546 < c) := by omega
          clear h1 h2
          have h3' : 768 ≤ c := by omega
          have h4' : c ≤ 71984 := by omega
          clear h3 h4
          rcases hlo with g1 | ⟨g1, g2, g3⟩ | ⟨g1, g2, g3, g4⟩
          · have g2 : c < 4520 := by omega
            go_enter Tryz.func87, Tryz.ntmps87
            conv in (occs := *) (Value.string _) => all_goals change Value.string parS
            generalize parS = S at *
            go_wp2
            go_loopw [3] (fun i wr => ∃ k : Nat, k ≤ 941 ∧ i = .int .i64 (15 * (k : Int) + 5) ∧ Hid (∀ j, j < k → fld S.data.toList 15 j 5 5 ≠ c) ∧ w = wr) (fun i _ => 14120 - (intOf i).toNat)
            case atStart => exact ⟨0, by omega, rfl, Lib.hid (fun j h => by omega), rfl⟩
            case round =>
              obtain ⟨k, hk, rfl, hno, rfl⟩ := hrel
              by_cases hlt : k < 941
              · obtain ⟨x, hx⟩ : ∃ x, fld S.data.toList 15 k 5 5 = x := ⟨_, rfl⟩
                have m1 := N1.out k hlt
                rw [hx] at m1
                have HX := Lib.hid hx
                clear hx
                by_cases hxc : x = c
                · subst hxc
                  have hs : s = true := Hiff.out.2 ⟨k, hlt, HX.out⟩
                  subst hs
                  go_wp2_with fail
                  refine (m1 _).mono ?_
                  rintro e w1 ⟨rfl, rfl⟩
                  go_wp2_with fail
                  go_ret
                  exact ⟨rfl, Up.refl _⟩
                · have hne : ((x : Int) == (c : Int)) = false := by simp; omega
                  go_wp2_with fail
                  refine (m1 _).mono ?_
                  rintro e w1 ⟨rfl, rfl⟩
                  go_wp2_with fail
                  go_roundw
                  case rel => exact ⟨k + 1, by omega, by go_num, Lib.hid (fun j hj => by
                    by_cases e : j = k
                    · subst e; rw [HX.out]; exact hxc
                    · exact hno.out j (by omega)), by first | rfl | trivial⟩
                  case measure => simp [intOf]; omega
              · obtain rfl : k = 941 := by omega
                have hs : s = false := by
                  cases s with
                  | false => rfl
                  | true => obtain ⟨i, hi, he⟩ := Hiff.out.1 rfl; exact absurd he (hno.out i hi)
                subst hs
                go_wp2_with fail
                go_ret
                exact ⟨rfl, Up.refl _⟩
          · go_enter Tryz.func87, Tryz.ntmps87
            conv in (occs := *) (Value.string _) => all_goals change Value.string parS
            generalize parS = S at *
            go_wp2
            go_loopw [3] (fun i wr => ∃ k : Nat, k ≤ 941 ∧ i = .int .i64 (15 * (k : Int) + 5) ∧ Hid (∀ j, j < k → fld S.data.toList 15 j 5 5 ≠ c) ∧ w = wr) (fun i _ => 14120 - (intOf i).toNat)
            case atStart => exact ⟨0, by omega, rfl, Lib.hid (fun j h => by omega), rfl⟩
            case round =>
              obtain ⟨k, hk, rfl, hno, rfl⟩ := hrel
              by_cases hlt : k < 941
              · obtain ⟨x, hx⟩ : ∃ x, fld S.data.toList 15 k 5 5 = x := ⟨_, rfl⟩
                have m1 := N1.out k hlt
                rw [hx] at m1
                have HX := Lib.hid hx
                clear hx
                by_cases hxc : x = c
                · subst hxc
                  have hs : s = true := Hiff.out.2 ⟨k, hlt, HX.out⟩
                  subst hs
                  go_wp2_with fail
                  refine (m1 _).mono ?_
                  rintro e w1 ⟨rfl, rfl⟩
                  go_wp2_with fail
                  go_ret
                  exact ⟨rfl, Up.refl _⟩
                · have hne : ((x : Int) == (c : Int)) = false := by simp; omega
                  go_wp2_with fail
                  refine (m1 _).mono ?_
                  rintro e w1 ⟨rfl, rfl⟩
                  go_wp2_with fail
                  go_roundw
                  case rel => exact ⟨k + 1, by omega, by go_num, Lib.hid (fun j hj => by
                    by_cases e : j = k
                    · subst e; rw [HX.out]; exact hxc
                    · exact hno.out j (by omega)), by first | rfl | trivial⟩
                  case measure => simp [intOf]; omega
              · obtain rfl : k = 941 := by omega
                have hs : s = false := by
                  cases s with
                  | false => rfl
                  | true => obtain ⟨i, hi, he⟩ := Hiff.out.1 rfl; exact absurd he (hno.out i hi)
                subst hs
                go_wp2_with fail
                go_ret
                exact ⟨rfl, Up.refl _⟩
          · go_enter Tryz.func87, Tryz.ntmps87
            conv in (occs := *) (Value.string _) => all_goals change Value.string parS
            generalize parS = S at *
            go_wp2
            go_loopw [3] (fun i wr => ∃ k : Nat, k ≤ 941 ∧ i = .int .i64 (15 * (k : Int) + 5) ∧ Hid (∀ j, j < k → fld S.data.toList 15 j 5 5 ≠ c) ∧ w = wr) (fun i _ => 14120 - (intOf i).toNat)
            case atStart => exact ⟨0, by omega, rfl, Lib.hid (fun j h => by omega), rfl⟩
            case round =>
              obtain ⟨k, hk, rfl, hno, rfl⟩ := hrel
              by_cases hlt : k < 941
              · obtain ⟨x, hx⟩ : ∃ x, fld S.data.toList 15 k 5 5 = x := ⟨_, rfl⟩
                have m1 := N1.out k hlt
                rw [hx] at m1
                have HX := Lib.hid hx
                clear hx
                by_cases hxc : x = c
                · subst hxc
                  have hs : s = true := Hiff.out.2 ⟨k, hlt, HX.out⟩
                  subst hs
                  go_wp2_with fail
                  refine (m1 _).mono ?_
                  rintro e w1 ⟨rfl, rfl⟩
                  go_wp2_with fail
                  go_ret
                  exact ⟨rfl, Up.refl _⟩
                · have hne : ((x : Int) == (c : Int)) = false := by simp; omega
                  go_wp2_with fail
                  refine (m1 _).mono ?_
                  rintro e w1 ⟨rfl, rfl⟩
                  go_wp2_with fail
                  go_roundw
                  case rel => exact ⟨k + 1, by omega, by go_num, Lib.hid (fun j hj => by
                    by_cases e : j = k
                    · subst e; rw [HX.out]; exact hxc
                    · exact hno.out j (by omega)), by first | rfl | trivial⟩
                  case measure => simp [intOf]; omega
              · obtain rfl : k = 941 := by omega
                have hs : s = false := by
                  cases s with
                  | false => rfl
                  | true => obtain ⟨i, hi, he⟩ := Hiff.out.1 rfl; exact absurd he (hno.out i hi)
                subst hs
                go_wp2_with fail
                go_ret
                exact ⟨rfl, Up.refl _⟩

end Go.Proofs.YtipemmjbgegmfaaGreatDoor

/- The document's Pair. -/
namespace Go.Proofs.YtipemmjbgegmfaaGreatDoor
open Go.RowKit

def climbs : List Nat → Bool
  | a :: b :: r => Nat.ble a b && climbs (b :: r)
  | _ => true
theorem par_climbs : climbs (keys 941 15 parS.data.toList) = true := by kernel_rfl
theorem climbs_le : ∀ (L : List Nat), climbs L = true → ∀ (i j a b : Nat), i ≤ j → L[i]? = some a → L[j]? = some b → a ≤ b
  | [], _, i, j, a, b, _, ha, _ => by simp at ha
  | [x], _, i, j, a, b, hij, ha, hb => by
    have h1 := (List.getElem?_eq_some_iff.1 hb).1
    have h2 := (List.getElem?_eq_some_iff.1 ha).1
    simp at h1 h2
    subst h1 h2
    rw [ha] at hb
    exact Nat.le_of_eq (Option.some.inj hb)
  | x :: y :: L, h, i, j, a, b, hij, ha, hb => by
    unfold climbs at h
    rw [Bool.and_eq_true] at h
    have hxy : x ≤ y := by simpa [Nat.ble_eq] using h.1
    match i, j, hij with
    | 0, 0, _ =>
      rw [ha] at hb
      exact Nat.le_of_eq (Option.some.inj hb)
    | 0, j + 1, _ =>
      simp only [List.getElem?_cons_zero, Option.some.injEq] at ha
      rw [List.getElem?_cons_succ] at hb
      have := climbs_le (y :: L) h.2 0 j y b (by omega) (by simp) hb
      omega
    | i + 1, j + 1, hij =>
      rw [List.getElem?_cons_succ] at ha hb
      exact climbs_le (y :: L) h.2 i j a b (by omega) ha hb
theorem par_le (i j : Nat) (hij : i ≤ j) (hj : j < 941) : key parS.data.toList 15 i ≤ key parS.data.toList 15 j :=
  climbs_le _ par_climbs i j _ _ hij (keys_get 15 941 _ i (by omega)) (keys_get 15 941 _ j hj)

/-- What a and b are composed to: some row says so, or none does. -/
def PairP (l : List UInt8) (a b x : Nat) (ok : Bool) : Prop :=
  (ok = true ∧ ∃ i, i < 941 ∧ key l 15 i = a ∧ fld l 15 i 5 5 = b ∧ fld l 15 i 10 5 = x) ∨ (ok = false ∧ x = 0 ∧ ∀ i, i < 941 → key l 15 i = a → fld l 15 i 5 5 ≠ b)
theorem row_uniq {i j : Nat} (hi : i < 941) (hj : j < 941) (h1 : key parL 15 i = key parL 15 j) (h2 : fld parL 15 i 5 5 = fld parL 15 j 5 5) : i = j := by
  refine Decidable.byContradiction fun hne => ?_
  by_cases h : i < j
  · have := pair_lt par_rising h hj
    unfold parL at h1 h2
    omega
  · have := pair_lt par_rising (show j < i by omega) hi
    unfold parL at h1 h2
    omega
theorem pair_uniq {a b x y : Nat} {p q : Bool} (h : PairP parL a b x p) (h' : PairP parL a b y q) : x = y ∧ p = q := by
  rcases h with ⟨rfl, i, hi, h1, h2, h3⟩ | ⟨rfl, rfl, hn⟩ <;> rcases h' with ⟨rfl, j, hj, g1, g2, g3⟩ | ⟨rfl, rfl, hm⟩
  · obtain rfl := row_uniq hi hj (h1.trans g1.symm) (h2.trans g2.symm)
    exact ⟨h3.symm.trans g3, rfl⟩
  · exact absurd h2 (hm i hi h1)
  · exact absurd g2 (hn j hj g1)
  · exact ⟨rfl, rfl⟩

set_option maxRecDepth 100000 in
set_option maxHeartbeats 1600000 in
theorem pair_ref (a b : Nat) (w : World) : Calls Tryz.prog 104 #[.int .u32 (a : Int), .int .u32 (b : Int)] w fun e w' => ∃ (x : Nat) (ok : Bool), e = .returned (.tuple #[.int .u32 (x : Int), .bool ok]) ∧ PairP parL a b x ok ∧ Up w w' := by
  have hla := last_15 parS 941 (Lib.hid (by rw [par_sz])) (by rw [par_sz]; decide) a (Lib.hid par_le) w
  have n1 := fun (k : Nat) (hk : k < 941) (w' : World) => num_at parS 15 k 0 5 (by omega) (by omega) w' (15 * (k : Int)) (by omega) 5 rfl
  have n2 := fun (k : Nat) (hk : k < 941) (w' : World) => num_at parS 15 k 5 5 (by omega) (by omega) w' (15 * (k : Int) + 5) (by omega) 5 rfl
  have n3 := fun (k : Nat) (hk : k < 941) (w' : World) => num_at parS 15 k 10 5 (by omega) (by omega) w' (15 * (k : Int) + 10) (by omega) 5 rfl
  have hmono := par_le
  have HLA := Lib.hid hla
  have HM := Lib.hid hmono
  have N1 := Lib.hid n1
  have N2 := Lib.hid n2
  have N3 := Lib.hid n3
  clear hla n1 n2 n3 hmono
  unfold parL
  go_enter Tryz.func104, Tryz.ntmps104
  conv in (occs := *) (Value.string _) => all_goals change Value.string parS
  generalize parS = S at *
  go_wp2_with fail
  refine HLA.out.mono ?_
  rintro e w1 ⟨r, rfl, hL, hu⟩
  have hr := hL.1
  have HL := Lib.hid hL
  clear hL HLA
  go_wp2_with fail
  go_loopw [6] (fun i wr => ∃ k : Nat, k ≤ r ∧ i = .int .i64 ((k : Int) - 1) ∧ Hid (∀ j, k ≤ j → j < 941 → key S.data.toList 15 j = a → fld S.data.toList 15 j 5 5 ≠ b) ∧ w1 = wr) (fun i _ => (intOf i + 1).toNat)
  case atStart => exact ⟨r, Nat.le_refl _, rfl, Lib.hid (fun j h1 h2 h3 => by have := HL.out.2.2 j h1 h2; omega), rfl⟩
  case round =>
    obtain ⟨k, hk, rfl, hno, rfl⟩ := hrel
    cases k with
    | zero =>
      rw [show ((0 : Nat) : Int) - 1 = -1 from rfl]
      clear N1 N2 N3 HL HM
      go_wp2_with fail
      go_ret2
      exact ⟨0, false, rfl, .inr ⟨rfl, rfl, fun j h => hno.out j (by omega) h⟩, hu⟩
    | succ k =>
      rw [show ((k + 1 : Nat) : Int) - 1 = (k : Int) by omega]
      have hlt : k < 941 := by omega
      obtain ⟨x, hx⟩ : ∃ x, fld S.data.toList 15 k 0 5 = x := ⟨_, rfl⟩
      obtain ⟨y, hy⟩ : ∃ y, fld S.data.toList 15 k 5 5 = y := ⟨_, rfl⟩
      obtain ⟨z, hz⟩ : ∃ z, fld S.data.toList 15 k 10 5 = z := ⟨_, rfl⟩
      have m1 := N1.out k hlt
      have m2 := N2.out k hlt
      have m3 := N3.out k hlt
      have hkey : key S.data.toList 15 k = x := by rw [key_fld, hx]
      rw [hx] at m1
      rw [hy] at m2
      rw [hz] at m3
      have HX := Lib.hid hkey
      have HY := Lib.hid hy
      have HZ := Lib.hid hz
      clear hx hy hz hkey N1 N2 N3
      by_cases hxa : x = a
      · subst hxa
        by_cases hyb : y = b
        · subst hyb
          go_wp2_with fail
          refine (m1 _).mono ?_
          rintro e w2 ⟨rfl, rfl⟩
          go_wp2_with fail
          refine (m2 _).mono ?_
          rintro e w2 ⟨rfl, rfl⟩
          go_wp2_with fail
          refine (m3 _).mono ?_
          rintro e w2 ⟨rfl, rfl⟩
          go_wp2_with fail
          go_ret2
          exact ⟨z, true, rfl, .inl ⟨rfl, k, hlt, HX.out, HY.out, HZ.out⟩, hu⟩
        · have hne : ((y : Int) == (b : Int)) = false := by simp; omega
          go_wp2_with fail
          refine (m1 _).mono ?_
          rintro e w2 ⟨rfl, rfl⟩
          go_wp2_with fail
          refine (m2 _).mono ?_
          rintro e w2 ⟨rfl, rfl⟩
          go_wp2_with fail
          go_roundw
          case rel => exact ⟨k, by omega, by go_num, Lib.hid (fun j h1 h2 h3 => by
            by_cases e : j = k
            · subst e; rw [HY.out]; exact hyb
            · exact hno.out j (by omega) h2 h3), by first | rfl | trivial⟩
          case measure => simp only [intOf]; omega
      · have hne : ((x : Int) == (a : Int)) = false := by simp; omega
        go_wp2_with fail
        refine (m1 _).mono ?_
        rintro e w2 ⟨rfl, rfl⟩
        go_wp2_with fail
        go_ret2
        exact ⟨0, false, rfl, .inr ⟨rfl, rfl, fun j h h3 => by
          by_cases hj : j ≤ k
          · have e1 := HM.out j k hj hlt
            have e2 := HM.out k (r - 1) (by omega) (by omega)
            have e3 := HL.out.2.1 (by omega)
            have e4 := HX.out
            omega
          · exact hno.out j (by omega) h h3⟩, hu⟩

end Go.Proofs.YtipemmjbgegmfaaGreatDoor

/- The document's Quickly, Starts. -/
namespace Go.Proofs.YtipemmjbgegmfaaGreatDoor
open Go.RowKit

/-- What a character may be in what is composed. -/
noncomputable def quickOf (c : Nat) : Nat := if rowOf c ≠ 0 ∧ cmpOf c = false then 1 else if secOf c = true then 2 else 0
noncomputable def startOf (c : Nat) : Bool := decide (clsOf c = 0) && decide (quickOf c = 0)

set_option maxRecDepth 100000 in
theorem quickly_ref (c : Nat) (w : World) : Calls Tryz.prog 68 #[.int .u32 (c : Int)] w fun e w' => e = .returned (.int .i64 (quickOf c : Int)) ∧ Up w w' := by
  have hro := fun w => row_ref c w
  have hco := fun w => composes_ref c w
  have hse := fun w => second_ref c w
  have hle := rowOf_le c
  unfold quickOf
  unfold rowI at hro
  generalize cmpOf c = m at *
  generalize secOf c = s at *
  generalize rowOf c = r at *
  cases r with
  | zero =>
    simp only [if_pos] at hro
    rw [if_neg (fun h => h.1 rfl)]
    cases s with
    | true =>
      go_enter Tryz.func68, Tryz.ntmps68
      go_wp2_with fail
      refine (hro _).mono ?_
      rintro e w1 ⟨rfl, hu⟩
      go_wp2_with fail
      refine (hse _).mono ?_
      rintro e w2 ⟨rfl, hu2⟩
      go_wp2_with fail
      go_ret
      exact ⟨rfl, hu.trans hu2⟩
    | false =>
      go_enter Tryz.func68, Tryz.ntmps68
      go_wp2_with fail
      refine (hro _).mono ?_
      rintro e w1 ⟨rfl, hu⟩
      go_wp2_with fail
      refine (hse _).mono ?_
      rintro e w2 ⟨rfl, hu2⟩
      go_wp2_with fail
      go_ret
      exact ⟨rfl, hu.trans hu2⟩
  | succ k =>
    rw [if_neg (Nat.succ_ne_zero k), Nat.add_sub_cancel] at hro
    cases m with
    | false =>
      rw [if_pos ⟨Nat.succ_ne_zero k, rfl⟩]
      go_enter Tryz.func68, Tryz.ntmps68
      go_wp2_with fail
      refine (hro _).mono ?_
      rintro e w1 ⟨rfl, hu⟩
      go_wp2_with fail
      refine (hco _).mono ?_
      rintro e w2 ⟨rfl, hu2⟩
      go_wp2_with fail
      go_ret
      exact ⟨rfl, hu.trans hu2⟩
    | true =>
      rw [if_neg (fun h => Bool.noConfusion h.2)]
      cases s with
      | true =>
        go_enter Tryz.func68, Tryz.ntmps68
        go_wp2_with fail
        refine (hro _).mono ?_
        rintro e w1 ⟨rfl, hu⟩
        go_wp2_with fail
        refine (hco _).mono ?_
        rintro e w2 ⟨rfl, hu2⟩
        go_wp2_with fail
        refine (hse _).mono ?_
        rintro e w3 ⟨rfl, hu3⟩
        go_wp2_with fail
        go_ret
        exact ⟨rfl, (hu.trans hu2).trans hu3⟩
      | false =>
        go_enter Tryz.func68, Tryz.ntmps68
        go_wp2_with fail
        refine (hro _).mono ?_
        rintro e w1 ⟨rfl, hu⟩
        go_wp2_with fail
        refine (hco _).mono ?_
        rintro e w2 ⟨rfl, hu2⟩
        go_wp2_with fail
        refine (hse _).mono ?_
        rintro e w3 ⟨rfl, hu3⟩
        go_wp2_with fail
        go_ret
        exact ⟨rfl, (hu.trans hu2).trans hu3⟩

set_option maxRecDepth 100000 in
theorem starts_ref (c : Nat) (w : World) : Calls Tryz.prog 53 #[.int .u32 (c : Int)] w fun e w' => e = .returned (.bool (startOf c)) ∧ Up w w' := by
  have hcl := fun w => class_ref c w
  have hqu := fun w => quickly_ref c w
  unfold startOf
  generalize clsOf c = x at *
  generalize quickOf c = q at *
  by_cases hx : x = 0
  · subst hx
    by_cases hq : q = 0
    · subst hq
      go_enter Tryz.func53, Tryz.ntmps53
      go_wp2_with fail
      refine (hcl _).mono ?_
      rintro e w1 ⟨rfl, hu⟩
      go_wp2_with fail
      refine (hqu _).mono ?_
      rintro e w2 ⟨rfl, hu2⟩
      go_wp2_with fail
      go_ret
      exact ⟨rfl, hu.trans hu2⟩
    · have hne : ((q : Int) == 0) = false := by simp; omega
      go_enter Tryz.func53, Tryz.ntmps53
      go_wp2_with fail
      refine (hcl _).mono ?_
      rintro e w1 ⟨rfl, hu⟩
      go_wp2_with fail
      refine (hqu _).mono ?_
      rintro e w2 ⟨rfl, hu2⟩
      go_wp2_with fail
      go_ret
      exact ⟨ret_val (by simp [hq]), hu.trans hu2⟩
  · have hne : ((x : Int) == 0) = false := by simp; omega
    go_enter Tryz.func53, Tryz.ntmps53
    go_wp2_with fail
    refine (hcl _).mono ?_
    rintro e w1 ⟨rfl, hu⟩
    go_wp2_with fail
    go_ret
    exact ⟨ret_val (by simp [hx]), hu⟩

end Go.Proofs.YtipemmjbgegmfaaGreatDoor
