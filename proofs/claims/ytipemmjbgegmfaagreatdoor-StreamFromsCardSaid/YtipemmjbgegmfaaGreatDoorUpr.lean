/- Upr: one text of Pdi Fnd Fnp Cfn Upt. -/
import Derived.Test.YtipemmjbgegmfaaGreatDoorUnl
import Derived.Outline
import Derived.Lib.Strings
import Derived.Lib.IndexBytes
import Derived.Deep.QuietTactic
import Derived.BigQuiet
import Derived.Shelf.Abstract
import Derived.Laws.EntriesVeiled
import Derived.Test.YtipemmjbgegmfaaGreatDoorUnm

/- The program's digit, number, character, cmp.Compare. -/
namespace Go.Proofs.YtipemmjbgegmfaaGreatDoor
open Go.RowKit

theorem digit_prog (b : UInt8) (w : World) : Calls Tryz.prog 99 #[.int .u8 (b.toNat : Int)] w fun e w' => e = .returned (.int .u32 (dig b : Int)) ∧ w = w' := by
  have hb := UInt8.toNat_lt b
  obtain ⟨x, hx⟩ : ∃ x, b.toNat = x := ⟨_, rfl⟩
  unfold dig
  rw [hx] at hb ⊢
  clear hx
  by_cases h : 97 ≤ x
  · rw [if_pos h]
    go_enter Tryz.func99, Tryz.ntmps99
    go_wp2
    go_ret
    exact ⟨ret_val (by show Value.int IntKind.u32 ((x : Int) - 97 + 10) = _; congr 1; omega), rfl⟩
  · rw [if_neg h]
    go_enter Tryz.func99, Tryz.ntmps99
    go_wp2
    go_ret
    exact ⟨ret_val (by show Value.int IntKind.u32 (((x : Int) - 48) % 256) = _; congr 1; omega), rfl⟩

def hexes (l : List UInt8) : Prop := ∀ b ∈ l, dig b < 16

theorem num_lt (l : List UInt8) (h : hexes l) : num l + 1 ≤ 16 ^ l.length := by
  have : ∀ (l : List UInt8) (x k : Nat), hexes l → x + 1 ≤ k → l.foldl (fun x b => 16 * x + dig b) x + 1 ≤ k * 16 ^ l.length := fun l => by
    induction l with
    | nil => intro x k _ h; simpa using h
    | cons b l ih =>
      intro x k hh h
      have hd := hh b (by simp)
      have := ih (16 * x + dig b) (k * 16) (fun c hc => hh c (by simp [hc])) (by omega)
      rw [List.length_cons, Nat.pow_succ, Nat.mul_comm (16 ^ l.length) 16, ← Nat.mul_assoc k]
      exact this
  have := this l 0 1 h (by decide)
  rwa [Nat.one_mul] at this

theorem bits_or_hex (z b : Nat) (hz : z < 268435456) (hb : b < 16) : bits BinOp.or IntKind.u32 ((z : Int) * 16) (b : Int) = ((16 * z + b : Nat) : Int) := by
  have h1 : (BitVec.ofInt 32 ((z : Int) * 16)).toNat = 16 * z := by
    rw [show (z : Int) * 16 = ((16 * z : Nat) : Int) by omega, BitVec.ofInt_natCast, BitVec.toNat_ofNat]; exact Nat.mod_eq_of_lt (by omega)
  have h2 : (BitVec.ofInt 32 (b : Int)).toNat = b := by
    rw [BitVec.ofInt_natCast, BitVec.toNat_ofNat]; exact Nat.mod_eq_of_lt (by omega)
  show IntKind.u32.wrap ((BitVec.ofInt 32 ((z : Int) * 16) ||| BitVec.ofInt 32 (b : Int)).toNat : Int) = _
  rw [BitVec.toNat_or, h1, h2]
  have h3 : 16 * z ||| b = 16 * z + b := (Nat.two_pow_add_eq_or_of_lt (i := 4) hb z).symm
  rw [h3, IntKind.wrap_u32]
  omega
theorem bits_and_hex (n : Nat) : bits BinOp.and IntKind.u32 (n : Int) 15 = ((n % 16 : Nat) : Int) := by
  have h1 : (BitVec.ofInt 32 (n : Int)).toNat = n % 4294967296 := by
    rw [BitVec.ofInt_natCast, BitVec.toNat_ofNat]
  have h2 : (BitVec.ofInt 32 15).toNat = 15 := by decide
  show IntKind.u32.wrap ((BitVec.ofInt 32 (n : Int) &&& BitVec.ofInt 32 15).toNat : Int) = _
  rw [BitVec.toNat_and, h1, h2]
  have h3 : n % 4294967296 &&& 15 = n % 4294967296 % 16 := Nat.and_two_pow_sub_one_eq_mod _ 4
  rw [h3, IntKind.wrap_u32]
  omega

theorem number_prog (s : ByteArray) (hs : s.size ≤ 5) (hh : Hid (hexes s.data.toList)) (w : World) :
    Calls Tryz.prog 76 #[.string s] w fun e w' => e = .returned (.int .u32 (num s.data.toList : Int)) ∧ w = w' := by
  go_enter Tryz.func76, Tryz.ntmps76
  go_wp2
  go_loop [3, 7] (fun x i => ∃ q : Nat, q ≤ s.size ∧ i = .int .i64 (q : Int) ∧ ∃ z : Nat, x = .int .u32 z ∧ Hid (z = num (s.data.toList.take q)) ∧ z + 1 ≤ 16 ^ q) (fun _ i => s.size - (intOf i).toNat)
  case atStart => exact ⟨0, by omega, by simp, 0, rfl, Lib.hid rfl, by decide⟩
  case round =>
    obtain ⟨q, hqn, rfl, z, rfl, hz, hzb⟩ := hrel
    by_cases hq : q < s.size
    · have hz4 : z ≤ 65535 := by
        have : 16 ^ q ≤ 16 ^ 4 := Nat.pow_le_pow_right (by decide) (by omega)
        omega
      have hst : num (s.data.toList.take (q + 1)) = 16 * z + dig s[q] := by
        have h1 : q < s.data.toList.length := by rw [Array.length_toList]; exact hq
        rw [List.take_succ_eq_append_getElem h1, num_app, ← hz.out]
        rfl
      have hd : dig s[q] < 16 := hh.out _ (by
        have h1 : q < s.data.toList.length := by rw [Array.length_toList]; exact hq
        exact List.getElem_mem h1)
      have Hst := Lib.hid hst
      clear hst
      go_wp2_with fail
      refine (digit_prog _ _).mono ?_
      rintro e w1 ⟨rfl, rfl⟩
      generalize dig s[q] = b at *
      go_wp2_with fail
      go_round
      case rel => exact ⟨q + 1, by omega, by go_num, 16 * z + b, by rw [bits_or_hex z b (by omega) hd], Lib.hid Hst.out.symm, by rw [Nat.pow_succ]; omega⟩
      case measure => simp [intOf]; omega
    · obtain rfl : q = s.size := by omega
      go_wp2_with fail
      go_ret
      exact ⟨ret_val (by rw [hz.out, List.take_of_length_le (by rw [Array.length_toList]; exact Nat.le_refl _)]; rfl), rfl⟩

theorem spells_prog (s : ByteArray) (hs : s.size ≤ 5) (hh : Hid (hexes s.data.toList)) (c : Nat) (w : World) :
    Calls Tryz.prog 102 #[.string s, .int .u32 (c : Int)] w fun e w' => e = .returned (.bool (decide (num s.data.toList = c))) ∧ w = w' := by
  obtain ⟨r, hr⟩ : ∃ r, decide (num s.data.toList = c) = r := ⟨_, rfl⟩
  rw [hr]
  have Hr := Lib.hid hr
  clear hr
  go_enter Tryz.func102, Tryz.ntmps102
  go_wp2
  go_loop [1, 8] (fun x i => ∃ q : Nat, q ≤ s.size ∧ i = .int .i64 (q : Int) ∧ ∃ n : Nat, x = .int .u32 n ∧ Hid (num s.data.toList = c ↔ num (s.data.toList.take (s.size - q)) = n)) (fun _ i => s.size - (intOf i).toNat)
  case atStart => exact ⟨0, by omega, by simp, c, rfl, Lib.hid (by rw [List.take_of_length_le (by rw [Array.length_toList]; exact Nat.le_refl _)])⟩
  case round =>
    obtain ⟨q, hqn, rfl, n, rfl, hI⟩ := hrel
    by_cases hq : q < s.size
    · have hst : num (s.data.toList.take (s.size - q)) = 16 * num (s.data.toList.take (s.size - (q + 1))) + dig s[s.size - 1 - q] := by
        have h1 : s.size - (q + 1) < s.data.toList.length := by rw [Array.length_toList]; show _ < s.size; omega
        rw [show s.size - q = s.size - (q + 1) + 1 by omega, List.take_succ_eq_append_getElem h1, num_app]
        congr 2
        have : s.size - (q + 1) = s.size - 1 - q := by omega
        simp only [this]
        rfl
      have hd : dig s[s.size - 1 - q] < 16 := hh.out _ (by
        have h1 : s.size - 1 - q < s.data.toList.length := by rw [Array.length_toList]; show _ < s.size; omega
        exact List.getElem_mem h1)
      have hI1 : 0 ≤ (s.size : Int) - 1 - (q : Int) := by omega
      have hI2 : (s.size : Int) - 1 - (q : Int) < (s.size : Int) := by omega
      have Hst := Lib.hid hst
      clear hst
      go_wp2_with fail
      refine (digit_prog _ _).mono ?_
      rintro e w1 ⟨rfl, rfl⟩
      generalize dig s[s.size - 1 - q] = b at *
      have HB := Lib.hid (bits_and_hex n)
      by_cases hbn : b = n % 16
      · have hne : ((b : Int) != bits BinOp.and IntKind.u32 (n : Int) 15) = false := by rw [HB.out]; simp; omega
        go_wp2_with fail
        go_round
        case rel => exact ⟨q + 1, by omega, by go_num, n / 16, by go_num, Lib.hid (hI.out.trans (by rw [Hst.out]; omega))⟩
        case measure => simp [intOf]; omega
      · have hne : ((b : Int) != bits BinOp.and IntKind.u32 (n : Int) 15) = true := by rw [HB.out]; simp; omega
        go_wp2_with fail
        go_ret
        refine ⟨ret_val (congrArg Value.bool ?_), rfl⟩
        rw [← Hr.out]
        exact (decide_eq_false fun h => hbn (by have := hI.out.1 h; rw [Hst.out] at this; omega)).symm
    · obtain rfl : q = s.size := by omega
      go_wp2_with fail
      go_ret
      refine ⟨ret_val (congrArg Value.bool ?_), rfl⟩
      rw [← Hr.out, Bool.eq_iff_iff, decide_eq_true_eq, hI.out, Nat.sub_self, List.take_zero]
      show _ ↔ 0 = n
      simp; omega

theorem cut_str (s : ByteArray) (i j : Int) (h0 : 0 ≤ i) (h1 : i ≤ j) (h2 : j ≤ s.size) : ∃ S : ByteArray, S.data.toList = (s.data.toList.drop i.toNat).take (j.toNat - i.toNat) ∧ S.size = j.toNat - i.toNat ∧
    ∀ w, (Instr.slice 9 (.string s) (some (.int .i64 i)) (some (.int .i64 j)) none).run Tryz.prog w = .ok (.string S) w := by
  refine ⟨s.extract i.toNat j.toNat, Lib.extract_data _ _ _, ?_, fun w => run_slice_string w 9 s .i64 .i64 i j Tryz.underlying9 h0 h1 h2⟩
  rw [size_of, Lib.extract_data, List.length_take, List.length_drop, ← size_of]
  omega
theorem cut_tail (s : ByteArray) (i : Int) (h0 : 0 ≤ i) (h2 : i ≤ s.size) : ∃ S : ByteArray, S.data.toList = s.data.toList.drop i.toNat ∧ S.size = s.size - i.toNat ∧
    ∀ w, (Instr.slice 9 (.string s) (some (.int .i64 i)) none none).run Tryz.prog w = .ok (.string S) w := by
  refine ⟨s.extract i.toNat s.size, Lib.extract_to_end _ _, ?_, fun w => run_slice_string_l (P := Tryz.prog) w 9 s Tryz.underlying9 .i64 i h0 h2⟩
  rw [size_of, Lib.extract_to_end, List.length_drop, ← size_of]

theorem character_prog (s : ByteArray) (k : Nat) (hk : k ≤ 2) (hs : 5 * k + 5 ≤ s.size) (hh : Hid (hexes ((s.data.toList.drop (5 * k)).take 5))) (w : World) :
    Calls Tryz.prog 75 #[.string s, .int .i64 (k : Int)] w fun e w' => e = .returned (.int .u32 (num ((s.data.toList.drop (5 * k)).take 5) : Int)) ∧ w = w' := by
  obtain ⟨S, hS, hS2, hsl⟩ := cut_str s ((k : Int) * 5) (((k : Int) + 1) * 5) (by omega) (by omega) (by omega)
  have e1 : ((k : Int) * 5).toNat = 5 * k := by omega
  have e2 : (((k : Int) + 1) * 5).toNat = 5 * k + 5 := by omega
  rw [e1, e2, Nat.add_sub_cancel_left] at hS
  rw [e1, e2, Nat.add_sub_cancel_left] at hS2
  rw [← hS] at hh ⊢
  clear hS e1 e2
  have hnum := fun w => number_prog S (by omega) hh w
  clear hh hS2
  generalize num S.data.toList = x at *
  go_enter Tryz.func75, Tryz.ntmps75
  go_wp2_with fail
  refine (hnum _).mono ?_
  rintro e w1 ⟨rfl, rfl⟩
  go_wp2_with fail
  go_ret
  exact ⟨rfl, rfl⟩

def cmp3 (a b : Nat) : Int := if a < b then -1 else if b < a then 1 else 0

theorem nan_prog (a : Nat) (w : World) : Calls Tryz.prog 117 #[.int .u32 (a : Int)] w fun e w' => e = .returned (.bool false) ∧ w = w' := by
  go_enter Tryz.func117, Tryz.ntmps117
  go_wp2
  go_ret
  exact ⟨ret_val (by simp), rfl⟩

theorem compare_prog (a b : Nat) (w : World) : Calls Tryz.prog 101 #[.int .u32 (a : Int), .int .u32 (b : Int)] w fun e w' => e = .returned (.int .i64 (cmp3 a b)) ∧ w = w' := by
  unfold cmp3
  by_cases h1 : a < b
  · rw [if_pos h1]
    go_enter Tryz.func101, Tryz.ntmps101
    go_wp2_with fail
    refine (nan_prog _ _).mono ?_
    rintro e w1 ⟨rfl, rfl⟩
    go_wp2_with fail
    refine (nan_prog _ _).mono ?_
    rintro e w1 ⟨rfl, rfl⟩
    go_wp2_with fail
    go_ret
    exact ⟨rfl, rfl⟩
  · rw [if_neg h1]
    by_cases h2 : b < a
    · rw [if_pos h2]
      go_enter Tryz.func101, Tryz.ntmps101
      go_wp2_with fail
      refine (nan_prog _ _).mono ?_
      rintro e w1 ⟨rfl, rfl⟩
      go_wp2_with fail
      refine (nan_prog _ _).mono ?_
      rintro e w1 ⟨rfl, rfl⟩
      go_wp2_with fail
      go_ret
      exact ⟨rfl, rfl⟩
    · rw [if_neg h2]
      go_enter Tryz.func101, Tryz.ntmps101
      go_wp2_with fail
      refine (nan_prog _ _).mono ?_
      rintro e w1 ⟨rfl, rfl⟩
      go_wp2_with fail
      refine (nan_prog _ _).mono ?_
      rintro e w1 ⟨rfl, rfl⟩
      go_wp2_with fail
      go_ret
      exact ⟨rfl, rfl⟩

end Go.Proofs.YtipemmjbgegmfaaGreatDoor

/- The program's find, by way of sort.Find. -/
namespace Go.Proofs.YtipemmjbgegmfaaGreatDoor
open Go.RowKit

/-- The cell of a captured variable. -/
def At (w : World) (b : Nat) (v : Value) : Prop := b < w.heap.size ∧ w.cell? ⟨b, 0, none⟩ = some v
theorem At.up {w w' : World} {b : Nat} {v : Value} (h : At w b v) (u : Up w w') : At w' b v :=
  ⟨Nat.lt_of_lt_of_le h.1 u.size, (Below.cell u (p := ⟨b, 0, none⟩) h.1).trans h.2⟩
theorem At.new (w : World) (v : Value) (t : TypeId) : At (w.alloc (.cells #[v] t)) w.heap.size v :=
  ⟨by simp, by rw [World.cell?_alloc_at _ _ _ _ rfl]; rfl⟩

/-- Row i. -/
def rowS (s : ByteArray) (size i : Nat) : ByteArray := s.extract (i * size) ((i + 1) * size)
theorem rowS_list (s : ByteArray) (size i : Nat) : (rowS s size i).data.toList = (s.data.toList.drop (i * size)).take size := by
  unfold rowS
  rw [Lib.extract_data, Nat.succ_mul, Nat.add_sub_cancel_left]
theorem rowS_size (s : ByteArray) (size i : Nat) (h : (i + 1) * size ≤ s.size) : (rowS s size i).size = size := by
  rw [size_of, rowS_list, List.length_take, List.length_drop, ← size_of]
  rw [Nat.succ_mul] at h
  omega
theorem row_fld (s : ByteArray) (size i o n : Nat) (h : o + n ≤ size) : ((rowS s size i).data.toList.drop o).take n = (s.data.toList.drop (i * size + o)).take n := by
  rw [rowS_list, List.drop_take, List.take_take, List.drop_drop, Nat.min_eq_left (by omega)]

theorem cut_prog (s : ByteArray) (size i bs bw : Nat) (h : (i + 1) * size ≤ s.size) (hs : s.size ≤ 100000) (hi : i ≤ 100000) (w : World) (h1 : At w bs (.string s)) (h2 : At w bw (.int .i64 (size : Int))) :
    Calls Tryz.prog 96 #[.int .i64 (i : Int), .pointer (some ⟨bs, 0, none⟩), .pointer (some ⟨bw, 0, none⟩)] w fun e w' => e = .returned (.string (rowS s size i)) ∧ w = w' := by
  have e1 : (i : Int) * (size : Int) = ((i * size : Nat) : Int) := by rw [Int.natCast_mul]
  have e2 : ((i : Int) + 1) * (size : Int) = (((i + 1) * size : Nat) : Int) := by rw [Int.natCast_mul]; rfl
  have hle : i * size ≤ (i + 1) * size := Nat.mul_le_mul_right _ (by omega)
  have hsl : ∀ w, (Instr.slice 9 (.string s) (some (.int .i64 ((i : Int) * (size : Int)))) (some (.int .i64 (((i : Int) + 1) * (size : Int)))) none).run Tryz.prog w = .ok (.string (rowS s size i)) w := fun w => by
    rw [e1, e2]
    exact run_slice_string w 9 s .i64 .i64 _ _ Tryz.underlying9 (by omega) (by omega) (by omega)
  have g1 : 0 ≤ (i : Int) * (size : Int) := by omega
  have g2 : (i : Int) * (size : Int) ≤ 100000 := by omega
  have g3 : 0 ≤ ((i : Int) + 1) * (size : Int) := by omega
  have g4 : ((i : Int) + 1) * (size : Int) ≤ 100000 := by omega
  clear e1 e2 hle h
  generalize rowS s size i = R at *
  have c1 := h1.2
  have c2 := h2.2
  clear h1 h2
  go_enter Tryz.func96, Tryz.ntmps96
  go_wp2
  go_ret
  exact ⟨rfl, rfl⟩

set_option maxRecDepth 100000 in
theorem step_prog (s : ByteArray) (size i bs bw bc bk g : Nat) (cb : Array Value) (eg : ∀ args w, (callFunc g args).run Tryz.prog w = .ok (.enter g args) w)
    (h : (i + 1) * size ≤ s.size) (hs : s.size ≤ 100000) (hi : i ≤ 100000) (x : Int) (w : World)
    (h1 : At w bs (.string s)) (h2 : At w bw (.int .i64 (size : Int))) (h3 : At w bc (.func (.func g) #[] cb)) (h4 : At w bk (.func (.func 96) #[] #[.pointer (some ⟨bs, 0, none⟩), .pointer (some ⟨bw, 0, none⟩)]))
    (hf : Hid (∀ w1, Up w w1 → Calls Tryz.prog g (#[.string (rowS s size i)] ++ cb) w1 fun e w' => e = .returned (.int .i64 x) ∧ Up w1 w')) :
    Calls Tryz.prog 98 #[.int .i64 (i : Int), .pointer (some ⟨bc, 0, none⟩), .pointer (some ⟨bk, 0, none⟩)] w fun e w' => e = .returned (.int .i64 x) ∧ Up w w' := by
  have hk := Lib.hid (fun w1 (u : Up w w1) => cut_prog s size i bs bw h hs hi w1 (h1.up u) (h2.up u))
  have HC3 := Lib.hid (fun w' (u : Up w.drew w') => (h3.up (Up.of_drew u)).2)
  have HC4 := Lib.hid (fun w' (u : Up w.drew w') => (h4.up (Up.of_drew u)).2)
  clear h1 h2 h3 h4 h
  go_enter Tryz.func98, Tryz.ntmps98
  go_wp2
  refine wp_region_pi [(0, false), (1, false), (2, false), (3, true), (4, true), (5, false)] (by kernel_rfl) (by kernel_rfl) (fun _ _ d _ _ h => by cases d <;> exact h) ?_
  iterate 3 (((with_reducible apply pi_take); (focus exact rfl); (focus exact rfl); (focus (intro w' hu; have hcx := HC3.out w' hu; have hcy := HC4.out w' hu; go_simp; try with_reducible rfl; done))); (simp only [Act.put, List.setIfInBounds_toArray, List.set_cons_succ, List.set_cons_zero]))
  refine pi_make rfl rfl (fun K hK => ?_)
  go_simp
  refine (hk.out _ (Up.refl w).drew).mono ?_
  rintro e w2 ⟨rfl, rfl⟩
  refine hK.out _ _ (Up.refl _) ?_
  clear hK K
  refine pi_make rfl rfl (fun K hK => ?_)
  go_simp
  refine (hf.out _ (Up.refl w).drew).mono ?_
  rintro e w2 ⟨rfl, hu⟩
  refine hK.out _ _ hu ?_
  clear hK K
  iterate 1 (((with_reducible apply pi_take); (focus exact rfl); (focus exact rfl); (focus (intro w' hu; go_simp; try with_reducible rfl; done))); (simp only [Act.put, List.setIfInBounds_toArray, List.set_cons_succ, List.set_cons_zero]))
  refine pi_done ?_
  go_wp2
  go_ret
  exact ⟨rfl, Up.of_drew hu⟩

/-- Where a binary search ends: r is the first place that is not behind. -/
def FindP (cf : Nat → Int) (n r : Nat) (ok : Bool) : Prop := r ≤ n ∧ (∀ i, i < r → 0 < cf i) ∧ (∀ i, r ≤ i → i < n → cf i ≤ 0) ∧ (ok = true ↔ r < n ∧ cf r = 0)

set_option maxRecDepth 100000 in
theorem sfind_prog (n : Nat) (hn : n ≤ 100000) (p q : Addr) (cf : Nat → Int) (w : World)
    (hf : Hid (∀ i, i < n → ∀ w1, Up w w1 → Calls Tryz.prog 98 #[.int .i64 (i : Int), .pointer (some p), .pointer (some q)] w1 fun e w' => e = .returned (.int .i64 (cf i)) ∧ Up w1 w'))
    (hmono : Hid (∀ i j, i ≤ j → j < n → 0 < cf j → 0 < cf i)) :
    Calls Tryz.prog 97 #[.int .i64 (n : Int), .func (.func 98) #[] #[.pointer (some p), .pointer (some q)]] w fun e w' => ∃ (r : Nat) (ok : Bool), e = .returned (.tuple #[.int .i64 (r : Int), .bool ok]) ∧ FindP cf n r ok ∧ Up w w' := by
  go_enter Tryz.func97, Tryz.ntmps97
  go_wp2
  go_loopw [4, 6] (fun lo hi wr => ∃ a b : Nat, a ≤ b ∧ b ≤ n ∧ lo = .int .i64 (a : Int) ∧ hi = .int .i64 (b : Int) ∧ Hid (∀ i, i < a → 0 < cf i) ∧ Hid (∀ i, b ≤ i → i < n → cf i ≤ 0) ∧ Up w wr) (fun lo hi _ => (intOf hi - intOf lo).toNat)
  case atStart => exact ⟨0, n, by omega, by omega, rfl, rfl, Lib.hid (fun i h => by omega), Lib.hid (fun i h => by omega), Up.refl w⟩
  case round =>
    obtain ⟨a, b, hab, hbn, rfl, rfl, hA, hB, hu⟩ := hrel
    by_cases hlt : a < b
    · obtain ⟨m, hm⟩ : ∃ m : Nat, ((a : Int) + b) / 2 = (m : Int) := ⟨(a + b) / 2, by omega⟩
      have hm1 : a ≤ m := by omega
      have hm2 : m < b := by omega
      have hc := hf.out m (by omega) wr hu
      obtain ⟨x, hx⟩ : ∃ x, cf m = x := ⟨_, rfl⟩
      rw [hx] at hc
      have HX := Lib.hid hx
      clear hx
      by_cases hle : 0 < x
      · go_wp2_with fail
        refine hc.mono ?_
        rintro e w1 ⟨rfl, hu1⟩
        go_wp2_with fail
        go_roundw
        case rel => exact ⟨m + 1, b, by omega, hbn, by go_num, rfl, Lib.hid (fun i hi => hmono.out i m (by omega) (by omega) (by rw [HX.out]; exact hle)), hB, hu.trans hu1⟩
        case measure => simp only [intOf]; omega
      · go_wp2_with fail
        refine hc.mono ?_
        rintro e w1 ⟨rfl, hu1⟩
        go_wp2_with fail
        go_roundw
        case rel => exact ⟨a, m, by omega, by omega, rfl, by go_num, hA, Lib.hid (fun i h1 h2 => Int.not_lt.1 fun h => by have := hmono.out m i h1 h2 h; rw [HX.out] at this; omega), hu.trans hu1⟩
        case measure => simp only [intOf]; omega
    · obtain rfl : a = b := by omega
      by_cases hlt2 : a < n
      · have hc := hf.out a hlt2 wr hu
        obtain ⟨x, hx⟩ : ∃ x, cf a = x := ⟨_, rfl⟩
        rw [hx] at hc
        have HX := Lib.hid hx
        clear hx
        go_wp2_with fail
        refine hc.mono ?_
        rintro e w1 ⟨rfl, hu1⟩
        go_wp2_with fail
        go_ret2
        exact ⟨a, _, rfl, ⟨by omega, hA.out, hB.out, by rw [HX.out]; simp [hlt2]⟩, hu.trans hu1⟩
      · go_wp2_with fail
        go_ret2
        exact ⟨a, _, rfl, ⟨by omega, hA.out, hB.out, by simp [hlt2]⟩, hu⟩

end Go.Proofs.YtipemmjbgegmfaaGreatDoor

/- The program's find: its contract; cmp.Or. -/
namespace Go.Proofs.YtipemmjbgegmfaaGreatDoor
open Go.RowKit

theorem or_prog (x y : Int) (b : Nat) (w : World) (h0 : w.cell? ⟨b, 0, none⟩ = some (.int .i64 x)) (h1 : w.cell? ⟨b, 1, none⟩ = some (.int .i64 y)) :
    Calls Tryz.prog 116 #[.slice (some ⟨b, 0, none⟩) 2 2] w fun e w' => e = .returned (.int .i64 (if x = 0 then y else x)) ∧ w = w' := by
  obtain ⟨r, hr⟩ : ∃ r, (if x = 0 then y else x) = r := ⟨_, rfl⟩
  rw [hr]
  have Hr := Lib.hid hr
  clear hr
  go_enter Tryz.func116, Tryz.ntmps116
  go_wp2
  go_loop [8] (fun i => ∃ k : Nat, i = .int .i64 (k : Int) ∧ k ≤ 2 ∧ Hid (0 < k → x = 0) ∧ Hid (1 < k → y = 0)) (fun i => 2 - (intOf i).toNat)
  case atStart => exact ⟨0, rfl, by omega, Lib.hid (fun h => absurd h (by omega)), Lib.hid (fun h => absurd h (by omega))⟩
  case round =>
    obtain ⟨k, rfl, hk, hX, hY⟩ := hrel
    match k, hk with
    | 0, _ =>
      rw [show ((0 : Nat) : Int) = 0 from rfl]
      by_cases hx : x = 0
      · have hx1 : (x != 0) = false := by simp [hx]
        have HX := Lib.hid hx
        clear hx
        go_wp2
        go_round
        case rel => exact ⟨1, rfl, by omega, Lib.hid (fun _ => HX.out), Lib.hid (fun h => absurd h (by omega))⟩
        case measure => simp [intOf]
      · have hx1 : (x != 0) = true := by simp [hx]
        have HX := Lib.hid hx
        clear hx
        go_wp2
        go_ret
        exact ⟨ret_val (show Value.int .i64 x = .int .i64 r by rw [← Hr.out, if_neg HX.out]), rfl⟩
    | 1, _ =>
      rw [show ((1 : Nat) : Int) = 1 from rfl]
      by_cases hy : y = 0
      · have hy1 : (y != 0) = false := by simp [hy]
        have HY := Lib.hid hy
        clear hy
        go_wp2
        go_round
        case rel => exact ⟨2, rfl, by omega, Lib.hid (fun _ => hX.out (by omega)), Lib.hid (fun _ => HY.out)⟩
        case measure => simp [intOf]
      · have hy1 : (y != 0) = true := by simp [hy]
        clear hy
        go_wp2
        go_ret
        exact ⟨ret_val (show Value.int .i64 y = .int .i64 r by rw [← Hr.out, if_pos (hX.out (by omega))]), rfl⟩
    | 2, _ =>
      rw [show ((2 : Nat) : Int) = 2 from rfl]
      go_wp2
      go_ret
      exact ⟨ret_val (show Value.int .i64 0 = .int .i64 r by rw [← Hr.out, if_pos (hX.out (by omega)), hY.out (by omega)]), rfl⟩

theorem At.alloc {w : World} {b : Nat} {v : Value} (h : At w b v) (o : Obj) : At (w.alloc o) b v := h.up ((Up.refl w).alloc o)
theorem boxes (w : World) (v1 v2 v3 v4 : Value) (t1 t2 t3 t4 : TypeId) : ∃ W, (((w.alloc (.cells #[v1] t1)).alloc (.cells #[v2] t2)).alloc (.cells #[v3] t3)).alloc (.cells #[v4] t4) = W ∧
    At W w.heap.size v1 ∧ At W (w.heap.size + 1) v2 ∧ At W (w.heap.size + 1 + 1) v3 ∧ At W (w.heap.size + 1 + 1 + 1) v4 ∧ Up w W := by
  have e1 : ∀ (w : World) o, (w.alloc o).heap.size = w.heap.size + 1 := fun w o => by simp
  refine ⟨_, rfl, (((At.new w v1 t1).alloc _).alloc _).alloc _, ?_, ?_, ?_, (((Up.refl w).alloc _).alloc _).alloc _ |>.alloc _⟩
  · have := (((At.new (w.alloc (.cells #[v1] t1)) v2 t2).alloc (.cells #[v3] t3)).alloc (.cells #[v4] t4))
    rwa [e1] at this
  · have := ((At.new ((w.alloc (.cells #[v1] t1)).alloc (.cells #[v2] t2)) v3 t3).alloc (.cells #[v4] t4))
    rwa [e1, e1] at this
  · have := (At.new (((w.alloc (.cells #[v1] t1)).alloc (.cells #[v2] t2)).alloc (.cells #[v3] t3)) v4 t4)
    rwa [e1, e1, e1] at this

set_option maxRecDepth 100000 in
theorem find_prog (s : ByteArray) (size N g : Nat) (cb : Array Value) (eg : ∀ args w, (callFunc g args).run Tryz.prog w = .ok (.enter g args) w)
    (hN : N * size ≤ s.size) (hNi : (s.size : Int) / (size : Int) = (N : Int)) (hz : 0 < size) (hs : s.size ≤ 100000) (hn : N ≤ 100000) (cf : Nat → Int) (w : World)
    (hf : Hid (∀ i, i < N → ∀ w1, Up w w1 → Calls Tryz.prog g (#[.string (rowS s size i)] ++ cb) w1 fun e w' => e = .returned (.int .i64 (cf i)) ∧ Up w1 w'))
    (hmono : Hid (∀ i j, i ≤ j → j < N → 0 < cf j → 0 < cf i)) :
    Calls Tryz.prog 73 #[.string s, .int .i64 (size : Int), .func (.func g) #[] cb] w fun e w' => ∃ (r : Nat) (ok : Bool), e = .returned (.tuple #[.string (if ok then rowS s size r else ⟨#[]⟩), .bool ok]) ∧ FindP cf N r ok ∧ Up w w' := by
  have hz1 : ((size : Int) == 0) = false := by simp; omega
  have hz2 : 0 < (size : Int) := by omega
  have HN := Lib.hid hN
  clear hN
  go_enter Tryz.func73, Tryz.ntmps73
  go_wp2_with fail
  obtain ⟨W, hW, A1, A2, A3, A4, hu⟩ := boxes w (.string s) (.int .i64 (size : Int)) (.func (.func g) #[] cb) (.func (.func 96) #[] #[.pointer (some ⟨w.heap.size, 0, none⟩), .pointer (some ⟨w.heap.size + 1, 0, none⟩)]) 9 3 102 116
  rw [hW]
  have HW := Lib.hid hW
  clear hW
  have hstep := Lib.hid (fun i (hi : i < N) w1 (u : Up W w1) => step_prog s size i w.heap.size (w.heap.size + 1) (w.heap.size + 1 + 1) (w.heap.size + 1 + 1 + 1) g cb eg (Nat.le_trans (Nat.mul_le_mul_right size hi) HN.out) hs (by omega) (cf i) w1 (A1.up u) (A2.up u) (A3.up u) (A4.up u) (Lib.hid (fun w2 u2 => hf.out i hi w2 ((hu.trans u).trans u2))))
  refine (sfind_prog N hn _ _ cf W hstep hmono).mono ?_
  rintro e w1 ⟨r, ok, rfl, hP, hu1⟩
  have HP := Lib.hid hP
  clear hstep hf hmono hP
  have hr := HP.out.1
  have B1 := A1.up hu1
  have B2 := A2.up hu1
  have B4 := A4.up hu1
  cases ok with
  | false =>
    clear A1 A2 A3 A4 B1 B2 B4
    go_wp2
    go_ret2
    exact ⟨r, false, rfl, HP.out, hu.trans hu1⟩
  | true =>
    have hlt : r < N := (HP.out.2.2.2.1 rfl).1
    have hk := cut_prog s size r w.heap.size (w.heap.size + 1) (Nat.le_trans (Nat.mul_le_mul_right size hlt) HN.out) hs (by omega) w1 B1 B2
    have c4 := B4.2
    clear A1 A2 A3 A4 B1 B2 B4
    go_wp2_with fail
    refine hk.mono ?_
    rintro e w2 ⟨rfl, rfl⟩
    go_wp2
    go_ret2
    exact ⟨r, true, rfl, HP.out, hu.trans hu1⟩

end Go.Proofs.YtipemmjbgegmfaaGreatDoor

/- The program's three function values that compare. -/
namespace Go.Proofs.YtipemmjbgegmfaaGreatDoor
open Go.RowKit

/-- What character answers of a row. -/
def Chr (R : ByteArray) (k x : Nat) : Prop := ∀ w, Calls Tryz.prog 75 #[.string R, .int .i64 (k : Int)] w fun e w' => e = .returned (.int .u32 (x : Int)) ∧ w = w'
theorem Chr.of {R : ByteArray} {k : Nat} (hk : k ≤ 2) (hs : 5 * k + 5 ≤ R.size) (hh : hexes ((R.data.toList.drop (5 * k)).take 5)) : Chr R k (num ((R.data.toList.drop (5 * k)).take 5)) :=
  fun w => character_prog R k hk hs (Lib.hid hh) w

def inR (x y c : Nat) : Int := if c < x then -1 else if y < c then 1 else 0

set_option maxRecDepth 100000 in
theorem class_step (R : ByteArray) (x y c b : Nat) (hx : Hid (Chr R 0 x)) (hy : Hid (Chr R 1 y)) (w : World) (hc : At w b (.int .u32 (c : Int))) :
    Calls Tryz.prog 74 #[.string R, .pointer (some ⟨b, 0, none⟩)] w fun e w' => e = .returned (.int .i64 (inR x y c)) ∧ Up w w' := by
  have HC := Lib.hid (fun w' (u : Up w w') => (hc.up u).2)
  clear hc
  unfold inR
  by_cases h1 : c < x
  · rw [if_pos h1]
    go_enter Tryz.func74, Tryz.ntmps74
    go_wp2
    refine wp_region_pi [(0, false), (1, false), (2, true), (3, false), (4, false)] (by kernel_rfl) (by kernel_rfl) (fun _ _ d _ _ h => by cases d <;> exact h) ?_
    iterate 2 (((with_reducible apply pi_take); (focus exact rfl); (focus exact rfl); (focus (intro w' hu; have hcx := HC.out w' (Up.of_drew hu); go_simp; try with_reducible rfl; done))); (simp only [Act.put, List.setIfInBounds_toArray, List.set_cons_succ, List.set_cons_zero]))
    refine pi_make rfl rfl (fun K hK => ?_)
    go_simp
    refine (hx.out _).mono ?_
    rintro e w2 ⟨rfl, rfl⟩
    refine hK.out _ _ (Up.refl _) ?_
    clear hK K
    iterate 2 (((with_reducible apply pi_take); (focus exact rfl); (focus exact rfl); (focus (intro w' hu; go_simp; try with_reducible rfl; done))); (simp only [Act.put, List.setIfInBounds_toArray, List.set_cons_succ, List.set_cons_zero]))
    refine pi_done ?_
    go_wp2
    go_ret
    exact ⟨rfl, (Up.refl w).drew⟩
  · rw [if_neg h1]
    obtain ⟨r, hr⟩ : ∃ r : Int, (if y < c then (1 : Int) else 0) = r := ⟨_, rfl⟩
    rw [hr]
    have Hr := Lib.hid hr
    clear hr
    go_enter Tryz.func74, Tryz.ntmps74
    go_wp2
    refine wp_region_pi [(0, false), (1, false), (2, true), (3, false), (4, false)] (by kernel_rfl) (by kernel_rfl) (fun _ _ d _ _ h => by cases d <;> exact h) ?_
    iterate 2 (((with_reducible apply pi_take); (focus exact rfl); (focus exact rfl); (focus (intro w' hu; have hcx := HC.out w' (Up.of_drew hu); go_simp; try with_reducible rfl; done))); (simp only [Act.put, List.setIfInBounds_toArray, List.set_cons_succ, List.set_cons_zero]))
    refine pi_make rfl rfl (fun K hK => ?_)
    go_simp
    refine (hx.out _).mono ?_
    rintro e w2 ⟨rfl, rfl⟩
    refine hK.out _ _ (Up.refl _) ?_
    clear hK K
    iterate 2 (((with_reducible apply pi_take); (focus exact rfl); (focus exact rfl); (focus (intro w' hu; go_simp; try with_reducible rfl; done))); (simp only [Act.put, List.setIfInBounds_toArray, List.set_cons_succ, List.set_cons_zero]))
    refine pi_done ?_
    go_wp2
    refine wp_region_pi [(0, false), (1, false), (2, true), (3, false), (4, false)] (by kernel_rfl) (by kernel_rfl) (fun _ _ d _ _ h => by cases d <;> exact h) ?_
    iterate 2 (((with_reducible apply pi_take); (focus exact rfl); (focus exact rfl); (focus (intro w' hu; have hcx := HC.out w' (Up.of_drew (Up.of_drew hu)); go_simp; try with_reducible rfl; done))); (simp only [Act.put, List.setIfInBounds_toArray, List.set_cons_succ, List.set_cons_zero]))
    refine pi_make rfl rfl (fun K hK => ?_)
    go_simp
    refine (hy.out _).mono ?_
    rintro e w2 ⟨rfl, rfl⟩
    refine hK.out _ _ (Up.refl _) ?_
    clear hK K
    iterate 2 (((with_reducible apply pi_take); (focus exact rfl); (focus exact rfl); (focus (intro w' hu; go_simp; try with_reducible rfl; done))); (simp only [Act.put, List.setIfInBounds_toArray, List.set_cons_succ, List.set_cons_zero]))
    refine pi_done ?_
    by_cases h2 : y < c
    · go_wp2
      go_ret
      exact ⟨ret_val (show Value.int .i64 1 = .int .i64 r by rw [← Hr.out, if_pos h2]), (Up.refl w).drew.drew⟩
    · go_wp2
      go_ret
      exact ⟨ret_val (show Value.int .i64 0 = .int .i64 r by rw [← Hr.out, if_neg h2]), (Up.refl w).drew.drew⟩

set_option maxRecDepth 100000 in
theorem decomp_step (R : ByteArray) (x c b : Nat) (hx : Hid (Chr R 0 x)) (w : World) (hc : At w b (.int .u32 (c : Int))) :
    Calls Tryz.prog 100 #[.string R, .pointer (some ⟨b, 0, none⟩)] w fun e w' => e = .returned (.int .i64 (cmp3 c x)) ∧ Up w w' := by
  have HC := Lib.hid (fun w' (u : Up w w') => (hc.up u).2)
  have hcm := Lib.hid (fun w => compare_prog c x w)
  clear hc
  generalize cmp3 c x = r at *
  go_enter Tryz.func100, Tryz.ntmps100
  go_wp2
  refine wp_region_pi [(0, false), (1, false), (2, true), (3, true), (4, false)] (by kernel_rfl) (by kernel_rfl) (fun _ _ d _ _ h => by cases d <;> exact h) ?_
  iterate 2 (((with_reducible apply pi_take); (focus exact rfl); (focus exact rfl); (focus (intro w' hu; have hcx := HC.out w' (Up.of_drew hu); go_simp; try with_reducible rfl; done))); (simp only [Act.put, List.setIfInBounds_toArray, List.set_cons_succ, List.set_cons_zero]))
  refine pi_make rfl rfl (fun K hK => ?_)
  go_simp
  refine (hx.out _).mono ?_
  rintro e w2 ⟨rfl, rfl⟩
  refine hK.out _ _ (Up.refl _) ?_
  clear hK K
  refine pi_make rfl rfl (fun K hK => ?_)
  go_simp
  refine (hcm.out _).mono ?_
  rintro e w2 ⟨rfl, rfl⟩
  refine hK.out _ _ (Up.refl _) ?_
  clear hK K
  iterate 1 (((with_reducible apply pi_take); (focus exact rfl); (focus exact rfl); (focus (intro w' hu; go_simp; try with_reducible rfl; done))); (simp only [Act.put, List.setIfInBounds_toArray, List.set_cons_succ, List.set_cons_zero]))
  refine pi_done ?_
  go_wp2
  go_ret
  exact ⟨rfl, (Up.refl w).drew⟩

/-- Two numbers compared, and two more. -/
def cmp2 (a b x y : Nat) : Int := if cmp3 a x = 0 then cmp3 b y else cmp3 a x

set_option maxRecDepth 100000 in
theorem pair_step (R : ByteArray) (x y a b ba bb : Nat) (hx : Hid (Chr R 0 x)) (hy : Hid (Chr R 1 y)) (w : World) (h1 : At w ba (.int .u32 (a : Int))) (h2 : At w bb (.int .u32 (b : Int))) :
    Calls Tryz.prog 115 #[.string R, .pointer (some ⟨ba, 0, none⟩), .pointer (some ⟨bb, 0, none⟩)] w fun e w' => e = .returned (.int .i64 (cmp2 a b x y)) ∧ Up w w' := by
  have HC1 := Lib.hid (fun w' (u : Up w w') => (h1.up u).2)
  have HC2 := Lib.hid (fun w' (u : Up w w') => (h2.up u).2)
  have hc1 := Lib.hid (fun w => compare_prog a x w)
  have hc2 := Lib.hid (fun w => compare_prog b y w)
  clear h1 h2
  unfold cmp2
  generalize cmp3 a x = p at *
  generalize cmp3 b y = q at *
  have hor := fun b w h0 h1 => or_prog p q b w h0 h1
  generalize (if p = 0 then q else p) = r at *
  have Hor := Lib.hid hor
  clear hor
  go_enter Tryz.func115, Tryz.ntmps115
  go_wp2
  refine wp_region_pi [(0, false), (1, false), (4, false), (5, false), (2, true), (3, true), (6, true), (7, true), (8, true), (9, true), (10, false)] (by kernel_rfl) (by kernel_rfl) (fun _ _ d _ _ h => by cases d <;> exact h) ?_
  iterate 4 (((with_reducible apply pi_take); (focus exact rfl); (focus exact rfl); (focus (intro w' hu; have hcx := HC1.out w' (Up.of_drew hu); have hcy := HC2.out w' (Up.of_drew hu); go_simp; try with_reducible rfl; done))); (simp only [Act.put, List.setIfInBounds_toArray, List.set_cons_succ, List.set_cons_zero]))
  refine pi_make rfl rfl (fun K hK => ?_)
  go_simp
  refine (hx.out _).mono ?_
  rintro e w2 ⟨rfl, rfl⟩
  refine hK.out _ _ (Up.refl _) ?_
  clear hK K
  refine pi_make rfl rfl (fun K hK => ?_)
  go_simp
  refine (hc1.out _).mono ?_
  rintro e w2 ⟨rfl, rfl⟩
  refine hK.out _ _ (Up.refl _) ?_
  clear hK K
  refine pi_make rfl rfl (fun K hK => ?_)
  go_simp
  refine (hy.out _).mono ?_
  rintro e w2 ⟨rfl, rfl⟩
  refine hK.out _ _ (Up.refl _) ?_
  clear hK K
  refine pi_make rfl rfl (fun K hK => ?_)
  go_simp
  refine (hc2.out _).mono ?_
  rintro e w2 ⟨rfl, rfl⟩
  refine hK.out _ _ (Up.refl _) ?_
  clear hK K
  refine pi_make rfl rfl (fun K hK => ?_)
  go_simp
  refine hK.out _ _ ((Up.refl w.drew).alloc _) ?_
  clear hK K
  refine pi_make rfl rfl (fun K hK => ?_)
  go_simp
  refine (Hor.out _ _ (by show (w.alloc _).cell? _ = _; rw [World.cell?_alloc_at _ _ _ _ rfl]; rfl) (by show (w.alloc _).cell? _ = _; rw [World.cell?_alloc_at _ _ _ _ rfl]; rfl)).mono ?_
  rintro e w2 ⟨rfl, rfl⟩
  refine hK.out _ _ (Up.refl _) ?_
  clear hK K
  iterate 1 (((with_reducible apply pi_take); (focus exact rfl); (focus exact rfl); (focus (intro w' hu; go_simp; try with_reducible rfl; done))); (simp only [Act.put, List.setIfInBounds_toArray, List.set_cons_succ, List.set_cons_zero]))
  refine pi_done ?_
  go_wp2
  go_ret
  exact ⟨rfl, (Up.refl w).drew.alloc _⟩

end Go.Proofs.YtipemmjbgegmfaaGreatDoor

/- What the program's search tells of the tables, plain. -/
namespace Go.Proofs.YtipemmjbgegmfaaGreatDoor
open Go.RowKit

theorem cmp3_pos (a b : Nat) : 0 < cmp3 a b ↔ b < a := by unfold cmp3; split <;> (try split) <;> omega
theorem cmp3_zero (a b : Nat) : cmp3 a b = 0 ↔ a = b := by unfold cmp3; split <;> (try split) <;> omega
theorem inR_pos (x y c : Nat) : 0 < inR x y c ↔ x ≤ c ∧ y < c := by unfold inR; split <;> (try split) <;> omega
theorem inR_zero (x y c : Nat) : inR x y c = 0 ↔ x ≤ c ∧ c ≤ y := by unfold inR; split <;> (try split) <;> omega
theorem cmp2_pos (a b x y : Nat) : 0 < cmp2 a b x y ↔ x < a ∨ (x = a ∧ y < b) := by
  unfold cmp2
  have h1 := cmp3_pos a x
  have h2 := cmp3_zero a x
  have h3 := cmp3_pos b y
  by_cases h : cmp3 a x = 0
  · rw [if_pos h, h3]
    have := h2.1 h
    omega
  · rw [if_neg h, h1]
    have := fun e => h (h2.2 e)
    omega
theorem cmp2_zero (a b x y : Nat) : cmp2 a b x y = 0 ↔ a = x ∧ b = y := by
  unfold cmp2
  have h2 := cmp3_zero a x
  have h3 := cmp3_zero b y
  by_cases h : cmp3 a x = 0
  · rw [if_pos h, h3]
    have := h2.1 h
    omega
  · rw [if_neg h]
    have := fun e => h (h2.2 e)
    omega

/-- Are the first d digits of each row hex digits? -/
def hexrows : Nat → Nat → Nat → List UInt8 → Bool
  | 0, _, _, _ => true
  | n + 1, size, d, l => (l.take d).all (fun b => Nat.blt (dig b) 16) && hexrows n size d (l.drop size)
theorem cls_hex : hexrows 388 12 12 clsS.data.toList = true := by kernel_rfl
theorem dec_hex : hexrows 2061 16 15 decS.data.toList = true := by kernel_rfl
theorem par_hex : hexrows 941 15 15 parS.data.toList = true := by kernel_rfl
theorem hexes_of {size d : Nat} : ∀ {N : Nat} {l : List UInt8} {i : Nat}, hexrows N size d l = true → i < N → hexes ((l.drop (i * size)).take d)
  | 0, _, _, _, h => absurd h (Nat.not_lt_zero _)
  | n + 1, l, i, hh, hi => by
    unfold hexrows at hh
    rw [Bool.and_eq_true] at hh
    match i with
    | 0 =>
      rw [Nat.zero_mul, List.drop_zero]
      intro b hb
      have := List.all_eq_true.1 hh.1 b hb
      rwa [Nat.blt_eq] at this
    | i + 1 =>
      have := hexes_of hh.2 (i := i) (by omega)
      rw [List.drop_drop] at this
      rwa [Nat.succ_mul, Nat.add_comm]
theorem hexes_fld {size d N : Nat} {l : List UInt8} {i o n : Nat} (hh : hexrows N size d l = true) (hi : i < N) (ho : o + n ≤ d) : hexes ((l.drop (i * size + o)).take n) := by
  have h := hexes_of hh hi
  intro b hb
  refine h b ?_
  rw [← List.drop_drop] at hb
  have e : ((l.drop (i * size)).drop o).take n = (((l.drop (i * size)).take d).drop o).take n := by
    rw [List.drop_take, List.take_take, Nat.min_eq_left (by omega)]
  rw [e] at hb
  exact List.mem_of_mem_drop (List.mem_of_mem_take hb)

/-- What character answers of row i. -/
theorem row_chr (s : ByteArray) {size d N : Nat} {i k : Nat} (hh : hexrows N size d s.data.toList = true) (hi : i < N) (hk : k ≤ 2) (hd : 5 * k + 5 ≤ d) (hsz : 5 * k + 5 ≤ size) (hN : N * size ≤ s.size) : Chr (rowS s size i) k (fld s.data.toList size i (5 * k) 5) := by
  have hr : (i + 1) * size ≤ s.size := Nat.le_trans (Nat.mul_le_mul_right size hi) hN
  have e := row_fld s size i (5 * k) 5 hsz
  unfold fld
  rw [← e]
  exact Chr.of hk (by rw [rowS_size s size i hr]; exact hsz) (by rw [e]; exact hexes_fld hh hi hd)

/-- Where each row of Classes begins and ends. -/
def ends : Nat → List UInt8 → List Nat
  | 0, _ => []
  | n + 1, l => 2 * num (l.take 5) :: (2 * num ((l.drop 5).take 5) + 1) :: ends n (l.drop 12)
theorem ends_get : ∀ (n : Nat) (l : List UInt8) (i : Nat), i < n → (ends n l)[2 * i]? = some (2 * key l 12 i) ∧ (ends n l)[2 * i + 1]? = some (2 * fld l 12 i 5 5 + 1)
  | 0, _, _, h => absurd h (Nat.not_lt_zero _)
  | n + 1, l, 0, _ => by simp [ends, key, fld]
  | n + 1, l, i + 1, h => by
    obtain ⟨h1, h2⟩ := ends_get n (l.drop 12) i (by omega)
    rw [ends, show 2 * (i + 1) = 2 * i + 1 + 1 by omega, List.getElem?_cons_succ, List.getElem?_cons_succ, List.getElem?_cons_succ, List.getElem?_cons_succ, h1, h2]
    unfold key fld
    rw [List.drop_drop, List.drop_drop, show (i + 1) * 12 = 12 + i * 12 by omega, show 12 + i * 12 + 5 = 12 + (i * 12 + 5) by omega]
    exact ⟨rfl, rfl⟩
theorem cls_ends : rising (ends 388 clsS.data.toList) = true := by kernel_rfl
theorem cls_in (i : Nat) (hi : i < 388) : key clsS.data.toList 12 i ≤ fld clsS.data.toList 12 i 5 5 := by
  obtain ⟨h1, h2⟩ := ends_get 388 clsS.data.toList i hi
  have := rising_le _ cls_ends _ _ _ _ (show 2 * i < 2 * i + 1 by omega) h1 h2
  omega
theorem cls_apart (i j : Nat) (hij : i < j) (hj : j < 388) : fld clsS.data.toList 12 i 5 5 < key clsS.data.toList 12 j := by
  obtain ⟨_, h1⟩ := ends_get 388 clsS.data.toList i (by omega)
  obtain ⟨h2, _⟩ := ends_get 388 clsS.data.toList j hj
  have := rising_le _ cls_ends _ _ _ _ (show 2 * i + 1 < 2 * j by omega) h1 h2
  omega

theorem cls_mono (c : Nat) : ∀ i j, i ≤ j → j < 388 → 0 < inR (key clsS.data.toList 12 j) (fld clsS.data.toList 12 j 5 5) c → 0 < inR (key clsS.data.toList 12 i) (fld clsS.data.toList 12 i 5 5) c := by
  intro i j hij hj h
  rw [inR_pos] at h ⊢
  by_cases e : i = j
  · subst e; exact h
  · have h1 := cls_apart i j (by omega) hj
    have h2 := cls_in i (by omega)
    omega
theorem cls_found {c r : Nat} {ok : Bool} (h : FindP (fun i => inR (key clsS.data.toList 12 i) (fld clsS.data.toList 12 i 5 5) c) 388 r ok) :
    (ok = true ∧ r < 388 ∧ clsOf c = fld clsS.data.toList 12 r 10 2) ∨ (ok = false ∧ clsOf c = 0) := by
  obtain ⟨h1, h2, h3, h4⟩ := h
  cases ok with
  | true =>
    obtain ⟨h5, h6⟩ := h4.1 rfl
    refine .inl ⟨rfl, h5, ?_⟩
    have h7 := (inR_zero _ _ _).1 h6
    have hr : rank clsL 12 c 388 = r + 1 := last_uniq (rank_last cls_rising c) ⟨h5, fun _ => by rw [Nat.add_sub_cancel]; exact h7.1, fun i g1 g2 => by
      have := cls_apart r i (by omega) g2; omega⟩
    unfold clsOf
    rw [hr, if_neg (Nat.succ_ne_zero r), Nat.add_sub_cancel]
    unfold clsL
    rw [if_neg (by omega)]
  | false =>
    refine .inr ⟨rfl, ?_⟩
    have h5 : r < 388 → c < key clsS.data.toList 12 r := fun hlt => by
      have g1 := h3 r (Nat.le_refl _) hlt
      have g2 : ¬ inR (key clsS.data.toList 12 r) (fld clsS.data.toList 12 r 5 5) c = 0 := fun e => Bool.noConfusion (h4.2 ⟨hlt, e⟩)
      have g3 : ¬ 0 < inR (key clsS.data.toList 12 r) (fld clsS.data.toList 12 r 5 5) c := by simp only at g1; omega
      rw [inR_pos] at g3
      rw [inR_zero] at g2
      omega
    have h6 : ∀ i, i < r → fld clsS.data.toList 12 i 5 5 < c := fun i hi => ((inR_pos _ _ _).1 (h2 i hi)).2
    have hr : rank clsL 12 c 388 = r := last_uniq (rank_last cls_rising c) ⟨h1, fun hp => by
      have g1 := h6 (r - 1) (by omega)
      have g2 := cls_in (r - 1) (by omega)
      omega, fun i g1 g2 => Nat.lt_of_lt_of_le (h5 (by omega)) (key_le cls_rising _ _ g1 g2)⟩
    unfold clsOf
    rw [hr]
    by_cases hz : r = 0
    · rw [if_pos hz]
    · rw [if_neg hz, if_pos (by unfold clsL; exact h6 (r - 1) (by omega))]

theorem dec_mono (c : Nat) : ∀ i j, i ≤ j → j < 2061 → 0 < cmp3 c (key decS.data.toList 16 j) → 0 < cmp3 c (key decS.data.toList 16 i) := by
  intro i j hij hj h
  rw [cmp3_pos] at h ⊢
  exact Nat.lt_of_le_of_lt (key_le dec_rising _ _ hij hj) h
theorem dec_found {c r : Nat} {ok : Bool} (h : FindP (fun i => cmp3 c (key decS.data.toList 16 i)) 2061 r ok) :
    (ok = true ∧ r < 2061 ∧ rowOf c = r + 1) ∨ (ok = false ∧ rowOf c = 0) := by
  obtain ⟨h1, h2, h3, h4⟩ := h
  cases ok with
  | true =>
    obtain ⟨h5, h6⟩ := h4.1 rfl
    exact .inl ⟨rfl, h5, row_of_key h5 ((cmp3_zero _ _).1 h6).symm⟩
  | false =>
    refine .inr ⟨rfl, Decidable.byContradiction fun hne => ?_⟩
    obtain ⟨k, hk⟩ : ∃ k, rowOf c = k + 1 := ⟨rowOf c - 1, by omega⟩
    obtain ⟨g1, g2⟩ := row_key hk
    unfold decL at g2
    have hlt : ¬ k < r := fun hlt => by have := (cmp3_pos _ _).1 (h2 k hlt); omega
    have hkr : r < 2061 := by omega
    have g3 : ¬ 0 < cmp3 c (key decS.data.toList 16 r) := by have := h3 r (Nat.le_refl _) hkr; simp only at this; omega
    have g4 : ¬ cmp3 c (key decS.data.toList 16 r) = 0 := fun e => Bool.noConfusion (h4.2 ⟨hkr, e⟩)
    rw [cmp3_pos] at g3
    rw [cmp3_zero] at g4
    have := key_le dec_rising r k (by omega) g1
    omega

theorem par_mono (a b : Nat) : ∀ i j, i ≤ j → j < 941 → 0 < cmp2 a b (key parS.data.toList 15 j) (fld parS.data.toList 15 j 5 5) → 0 < cmp2 a b (key parS.data.toList 15 i) (fld parS.data.toList 15 i 5 5) := by
  intro i j hij hj h
  rw [cmp2_pos] at h ⊢
  by_cases e : i = j
  · subst e; exact h
  · have g := pair_lt par_rising (show i < j by omega) hj
    have h1 := par_le i j hij hj
    omega
theorem par_found {a b r : Nat} {ok : Bool} (h : FindP (fun i => cmp2 a b (key parS.data.toList 15 i) (fld parS.data.toList 15 i 5 5)) 941 r ok) :
    (ok = true ∧ r < 941 ∧ PairP parL a b (fld parS.data.toList 15 r 10 5) true) ∨ (ok = false ∧ PairP parL a b 0 false) := by
  obtain ⟨h1, h2, h3, h4⟩ := h
  cases ok with
  | true =>
    obtain ⟨h5, h6⟩ := h4.1 rfl
    have h7 := (cmp2_zero _ _ _ _).1 h6
    exact .inl ⟨rfl, h5, .inl ⟨rfl, r, h5, h7.1.symm, h7.2.symm, rfl⟩⟩
  | false =>
    refine .inr ⟨rfl, .inr ⟨rfl, rfl, fun k g1 g2 g3 => ?_⟩⟩
    unfold parL at g2 g3
    have hlt : ¬ k < r := fun hlt => by have := (cmp2_pos _ _ _ _).1 (h2 k hlt); omega
    have hkr : r < 941 := by omega
    have g4 : ¬ 0 < cmp2 a b (key parS.data.toList 15 r) (fld parS.data.toList 15 r 5 5) := by have := h3 r (Nat.le_refl _) hkr; simp only at this; omega
    have g5 : ¬ cmp2 a b (key parS.data.toList 15 r) (fld parS.data.toList 15 r 5 5) = 0 := fun e => Bool.noConfusion (h4.2 ⟨hkr, e⟩)
    rw [cmp2_pos] at g4
    rw [cmp2_zero] at g5
    by_cases e : r = k
    · subst e; omega
    · have g6 := pair_lt par_rising (show r < k by omega) g1
      have g7 := par_le r k (by omega) g1
      omega

end Go.Proofs.YtipemmjbgegmfaaGreatDoor
