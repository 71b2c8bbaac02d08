/- The program's find, by way of sort.Find. -/
import Derived.Test.YthkbjbbffkgpfaaPdi
import Derived.Deep.QuietTactic
import Derived.BigQuiet
import Derived.Shelf.Abstract
namespace Go.Proofs.Ythkbjbbffkgpfaa
open Go.RowKit

/-- The cell of a captured variable. -/
def At (w : World) (b : Nat) (v : Value) : Prop := b < w.heap.size ∧ w.cell? ⟨b, 0, none⟩ = some v
theorem At.up {w w' : World} {b : Nat} {v : Value} (h : At w b v) (u : Up w w') : At w' b v :=
  ⟨Nat.lt_of_lt_of_le h.1 u.size, (Below.cell u (p := ⟨b, 0, none⟩) h.1).trans h.2⟩
theorem At.new (w : World) (v : Value) (t : TypeId) : At (w.alloc (.cells #[v] t)) w.heap.size v :=
  ⟨by simp, by rw [World.cell?_alloc_at _ _ _ _ rfl]; rfl⟩

/-- Row i. -/
def rowS (s : ByteArray) (size i : Nat) : ByteArray := s.extract (i * size) ((i + 1) * size)
theorem rowS_list (s : ByteArray) (size i : Nat) : (rowS s size i).data.toList = (s.data.toList.drop (i * size)).take size := by
  unfold rowS
  rw [Lib.extract_data, Nat.succ_mul, Nat.add_sub_cancel_left]
theorem rowS_size (s : ByteArray) (size i : Nat) (h : (i + 1) * size ≤ s.size) : (rowS s size i).size = size := by
  rw [size_of, rowS_list, List.length_take, List.length_drop, ← size_of]
  rw [Nat.succ_mul] at h
  omega
theorem row_fld (s : ByteArray) (size i o n : Nat) (h : o + n ≤ size) : ((rowS s size i).data.toList.drop o).take n = (s.data.toList.drop (i * size + o)).take n := by
  rw [rowS_list, List.drop_take, List.take_take, List.drop_drop, Nat.min_eq_left (by omega)]

theorem cut_prog (s : ByteArray) (size i bs bw : Nat) (h : (i + 1) * size ≤ s.size) (hs : s.size ≤ 100000) (hi : i ≤ 100000) (w : World) (h1 : At w bs (.string s)) (h2 : At w bw (.int .i64 (size : Int))) :
    Calls Try.prog 33 #[.int .i64 (i : Int), .pointer (some ⟨bs, 0, none⟩), .pointer (some ⟨bw, 0, none⟩)] w fun e w' => e = .returned (.string (rowS s size i)) ∧ w = w' := by
  have e1 : (i : Int) * (size : Int) = ((i * size : Nat) : Int) := by rw [Int.natCast_mul]
  have e2 : ((i : Int) + 1) * (size : Int) = (((i + 1) * size : Nat) : Int) := by rw [Int.natCast_mul]; rfl
  have hle : i * size ≤ (i + 1) * size := Nat.mul_le_mul_right _ (by omega)
  have hsl : ∀ w, (Instr.slice 9 (.string s) (some (.int .i64 ((i : Int) * (size : Int)))) (some (.int .i64 (((i : Int) + 1) * (size : Int)))) none).run Try.prog w = .ok (.string (rowS s size i)) w := fun w => by
    rw [e1, e2]
    exact run_slice_string w 9 s .i64 .i64 _ _ Try.underlying9 (by omega) (by omega) (by omega)
  have g1 : 0 ≤ (i : Int) * (size : Int) := by omega
  have g2 : (i : Int) * (size : Int) ≤ 100000 := by omega
  have g3 : 0 ≤ ((i : Int) + 1) * (size : Int) := by omega
  have g4 : ((i : Int) + 1) * (size : Int) ≤ 100000 := by omega
  clear e1 e2 hle h
  generalize rowS s size i = R at *
  have c1 := h1.2
  have c2 := h2.2
  clear h1 h2
  go_enter Try.func33, Try.ntmps33
  go_wp2
  go_ret
  exact ⟨rfl, rfl⟩

set_option maxRecDepth 100000 in
theorem step_prog (s : ByteArray) (size i bs bw bc bk g : Nat) (cb : Array Value) (eg : ∀ args w, (callFunc g args).run Try.prog w = .ok (.enter g args) w)
    (h : (i + 1) * size ≤ s.size) (hs : s.size ≤ 100000) (hi : i ≤ 100000) (x : Int) (w : World)
    (h1 : At w bs (.string s)) (h2 : At w bw (.int .i64 (size : Int))) (h3 : At w bc (.func (.func g) #[] cb)) (h4 : At w bk (.func (.func 33) #[] #[.pointer (some ⟨bs, 0, none⟩), .pointer (some ⟨bw, 0, none⟩)]))
    (hf : Hid (∀ w1, Up w w1 → Calls Try.prog g (#[.string (rowS s size i)] ++ cb) w1 fun e w' => e = .returned (.int .i64 x) ∧ Up w1 w')) :
    Calls Try.prog 35 #[.int .i64 (i : Int), .pointer (some ⟨bc, 0, none⟩), .pointer (some ⟨bk, 0, none⟩)] w fun e w' => e = .returned (.int .i64 x) ∧ Up w w' := by
  have hk := Lib.hid (fun w1 (u : Up w w1) => cut_prog s size i bs bw h hs hi w1 (h1.up u) (h2.up u))
  have HC3 := Lib.hid (fun w' (u : Up w.drew w') => (h3.up (Up.of_drew u)).2)
  have HC4 := Lib.hid (fun w' (u : Up w.drew w') => (h4.up (Up.of_drew u)).2)
  clear h1 h2 h3 h4 h
  go_enter Try.func35, Try.ntmps35
  go_wp2
  refine wp_region_pi [(0, false), (1, false), (2, false), (3, true), (4, true), (5, false)] (by kernel_rfl) (by kernel_rfl) (fun _ _ d _ _ h => by cases d <;> exact h) ?_
  iterate 3 (((with_reducible apply pi_take); (focus exact rfl); (focus exact rfl); (focus (intro w' hu; have hcx := HC3.out w' hu; have hcy := HC4.out w' hu; go_simp; try with_reducible rfl; done))); (simp only [Act.put, List.setIfInBounds_toArray, List.set_cons_succ, List.set_cons_zero]))
  refine pi_make rfl rfl (fun K hK => ?_)
  go_simp
  refine (hk.out _ (Up.refl w).drew).mono ?_
  rintro e w2 ⟨rfl, rfl⟩
  refine hK.out _ _ (Up.refl _) ?_
  clear hK K
  refine pi_make rfl rfl (fun K hK => ?_)
  go_simp
  refine (hf.out _ (Up.refl w).drew).mono ?_
  rintro e w2 ⟨rfl, hu⟩
  refine hK.out _ _ hu ?_
  clear hK K
  iterate 1 (((with_reducible apply pi_take); (focus exact rfl); (focus exact rfl); (focus (intro w' hu; go_simp; try with_reducible rfl; done))); (simp only [Act.put, List.setIfInBounds_toArray, List.set_cons_succ, List.set_cons_zero]))
  refine pi_done ?_
  go_wp2
  go_ret
  exact ⟨rfl, Up.of_drew hu⟩

/-- Where a binary search ends: r is the first place that is not behind. -/
def FindP (cf : Nat → Int) (n r : Nat) (ok : Bool) : Prop := r ≤ n ∧ (∀ i, i < r → 0 < cf i) ∧ (∀ i, r ≤ i → i < n → cf i ≤ 0) ∧ (ok = true ↔ r < n ∧ cf r = 0)

set_option maxRecDepth 100000 in
theorem sfind_prog (n : Nat) (hn : n ≤ 100000) (p q : Addr) (cf : Nat → Int) (w : World)
    (hf : Hid (∀ i, i < n → ∀ w1, Up w w1 → Calls Try.prog 35 #[.int .i64 (i : Int), .pointer (some p), .pointer (some q)] w1 fun e w' => e = .returned (.int .i64 (cf i)) ∧ Up w1 w'))
    (hmono : Hid (∀ i j, i ≤ j → j < n → 0 < cf j → 0 < cf i)) :
    Calls Try.prog 34 #[.int .i64 (n : Int), .func (.func 35) #[] #[.pointer (some p), .pointer (some q)]] w fun e w' => ∃ (r : Nat) (ok : Bool), e = .returned (.tuple #[.int .i64 (r : Int), .bool ok]) ∧ FindP cf n r ok ∧ Up w w' := by
  go_enter Try.func34, Try.ntmps34
  go_wp2
  go_loopw [4, 6] (fun lo hi wr => ∃ a b : Nat, a ≤ b ∧ b ≤ n ∧ lo = .int .i64 (a : Int) ∧ hi = .int .i64 (b : Int) ∧ Hid (∀ i, i < a → 0 < cf i) ∧ Hid (∀ i, b ≤ i → i < n → cf i ≤ 0) ∧ Up w wr) (fun lo hi _ => (intOf hi - intOf lo).toNat)
  case atStart => exact ⟨0, n, by omega, by omega, rfl, rfl, Lib.hid (fun i h => by omega), Lib.hid (fun i h => by omega), Up.refl w⟩
  case round =>
    obtain ⟨a, b, hab, hbn, rfl, rfl, hA, hB, hu⟩ := hrel
    by_cases hlt : a < b
    · obtain ⟨m, hm⟩ : ∃ m : Nat, ((a : Int) + b) / 2 = (m : Int) := ⟨(a + b) / 2, by omega⟩
      have hm1 : a ≤ m := by omega
      have hm2 : m < b := by omega
      have hc := hf.out m (by omega) wr hu
      obtain ⟨x, hx⟩ : ∃ x, cf m = x := ⟨_, rfl⟩
      rw [hx] at hc
      have HX := Lib.hid hx
      clear hx
      by_cases hle : 0 < x
      · go_wp2_with fail
        refine hc.mono ?_
        rintro e w1 ⟨rfl, hu1⟩
        go_wp2_with fail
        go_roundw
        case rel => exact ⟨m + 1, b, by omega, hbn, by go_num, rfl, Lib.hid (fun i hi => hmono.out i m (by omega) (by omega) (by rw [HX.out]; exact hle)), hB, hu.trans hu1⟩
        case measure => simp only [intOf]; omega
      · go_wp2_with fail
        refine hc.mono ?_
        rintro e w1 ⟨rfl, hu1⟩
        go_wp2_with fail
        go_roundw
        case rel => exact ⟨a, m, by omega, by omega, rfl, by go_num, hA, Lib.hid (fun i h1 h2 => Int.not_lt.1 fun h => by have := hmono.out m i h1 h2 h; rw [HX.out] at this; omega), hu.trans hu1⟩
        case measure => simp only [intOf]; omega
    · obtain rfl : a = b := by omega
      by_cases hlt2 : a < n
      · have hc := hf.out a hlt2 wr hu
        obtain ⟨x, hx⟩ : ∃ x, cf a = x := ⟨_, rfl⟩
        rw [hx] at hc
        have HX := Lib.hid hx
        clear hx
        go_wp2_with fail
        refine hc.mono ?_
        rintro e w1 ⟨rfl, hu1⟩
        go_wp2_with fail
        go_ret2
        exact ⟨a, _, rfl, ⟨by omega, hA.out, hB.out, by rw [HX.out]; simp [hlt2]⟩, hu.trans hu1⟩
      · go_wp2_with fail
        go_ret2
        exact ⟨a, _, rfl, ⟨by omega, hA.out, hB.out, by simp [hlt2]⟩, hu⟩

end Go.Proofs.Ythkbjbbffkgpfaa
