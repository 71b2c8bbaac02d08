/- The program's order: Classes, marks, Is; the comparison. -/
import Derived.Test.YthkbjbbffkgpfaaKs
import Derived.Test.YthkbjbbffkgpfaaOrdq
import Derived.Test.YthkbjbbffkgpfaaUoh
namespace Go.Proofs.Ythkbjbbffkgpfaa
open Go.RowKit

theorem infoK : (Try.prog.info? 3).map (fun i => (i.zero, i.size, i.bytes)) = some (some (.int .i64 0), 1, 8) := by kernel_rfl
theorem uKe : Try.prog.underlying 28 = some (.slice (Try.prog.elem 28)) := by kernel_rfl
theorem uUe : Try.prog.underlying 22 = some (.slice (Try.prog.elem 22)) := by kernel_rfl

theorem made_ints (w : World) (q : Nat) (hq : q ≤ 1000000000) : ∃ w', (Instr.makeSlice 28 (.int .i64 (q : Int)) (.int .i64 (q : Int))).run Try.prog w = .ok (.slice (some ⟨w.heap.size, 0, none⟩) q q) w' ∧
    w'.ownsRow w.heap.size 3 1 (.slice (some ⟨w.heap.size, 0, none⟩) q q) q (ks (List.replicate q 0)) ∧ Up w w' ∧ w.heap.size < w'.heap.size := by
  obtain ⟨i, h1, h2, h3, h4⟩ := info_parts infoK
  obtain ⟨w', hrun, r1, r2⟩ := run_make_full (P := Try.prog) w w.heap.size 28 3 i (.int .i64 0) 1 uKe h1 h2 h3 .i64 .i64 q (by rw [h4]; omega) (by unfold maxLen; omega) (Nat.le_refl _)
  refine ⟨w', hrun, ?_, Up.own (Up.refl w) r2 (fun k hk => by cases hk), ?_⟩
  · have e : (madeCells (Value.int .i64 0).cells (q * 1)).toList = ks (List.replicate q 0) := by
      rw [show (Value.int .i64 0).cells = #[Value.int .i64 0] from rfl, toList_madeCells_one, Nat.mul_one]
      exact ks_zero q
    rwa [e] at r1
  · exact (r1.lt _ rfl).2
theorem made_nums (w : World) (base q : Nat) (hbase : base ≤ w.heap.size) (hq : q ≤ 1000000000) : ∃ w', (Instr.makeSlice 22 (.int .i64 (q : Int)) (.int .i64 (q : Int))).run Try.prog w = .ok (.slice (some ⟨w.heap.size, 0, none⟩) q q) w' ∧
    w'.ownsRow base 26 1 (.slice (some ⟨w.heap.size, 0, none⟩) q q) q (us (List.replicate q 0)) ∧ Up w w' := by
  obtain ⟨i, h1, h2, h3, h4⟩ := info_parts infoU
  obtain ⟨w', hrun, r1, r2⟩ := run_make_full (P := Try.prog) w base 22 26 i (.int .u32 0) 1 uUe h1 h2 h3 .i64 .i64 q (by rw [h4]; omega) (by unfold maxLen; omega) hbase
  refine ⟨w', hrun, ?_, Up.own (Up.refl w) r2 (fun k hk => by cases hk)⟩
  have e : (madeCells (Value.int .u32 0).cells (q * 1)).toList = us (List.replicate q 0) := by
    rw [show (Value.int .u32 0).cells = #[Value.int .u32 0] from rfl, toList_madeCells_one, Nat.mul_one]
    simp [us]
  rwa [e] at r1

/-- One more of them is laid. -/
theorem lay_nat (X : List Nat) (q k : Nat) (h : k < X.length) (hq : X.length = q) : (X.take k ++ List.replicate (q - k) 0).set k X[k] = X.take (k + 1) ++ List.replicate (q - (k + 1)) 0 := by
  have e : List.replicate (q - k) 0 = 0 :: List.replicate (q - (k + 1)) 0 := by
    rw [show q - k = (q - (k + 1)) + 1 by omega]; rfl
  have hl : (X.take k).length = k := by rw [List.length_take]; omega
  rw [List.set_append_right _ _ (by omega), hl, Nat.sub_self, e, List.set_cons_zero, List.take_succ_eq_append_getElem h, List.append_assoc]
  rfl

set_option maxRecDepth 100000 in
set_option maxHeartbeats 1000000 in
theorem classes_prog (A : Option Addr) (n d : Nat) (l : List Nat) (w : World) (h : Rd w A d (us l)) (hn : n = l.length) (hmax : n ≤ 1000000000) :
    Calls Try.prog 12 #[.slice A n d] w (GivesK (l.map clsOf) w) := by
  have H := Lib.hid h
  have Hn := Lib.hid hn
  have hf := h.fit
  rw [us_len, ← hn] at hf
  obtain ⟨X, hX⟩ : ∃ X, l.map clsOf = X := ⟨_, rfl⟩
  have hxl : X.length = n := by rw [← hX, List.length_map, hn]
  have HXG := Lib.hid (fun k (h : k < l.length) (h2 : k < X.length) => show X[k] = clsOf l[k] by subst hX; simp)
  have HX := Lib.hid hxl
  rw [hX]
  unfold GivesK
  obtain ⟨w1, hmk, hown, hu1, _⟩ := made_ints w n hmax
  have HO := Lib.hid hown
  have HC := Lib.hid class_prog
  clear h hn hown hX hxl
  go_enter Try.func12, Try.ntmps12
  go_wp2_with fail
  clear hmk
  go_loopw [11] (fun i wr => ∃ k : Nat, k ≤ n ∧ i = .int .i64 (k : Int) ∧ Hid (wr.ownsRow w.heap.size 3 1 (.slice (some ⟨w.heap.size, 0, none⟩) n n) n (ks (X.take k ++ List.replicate (n - k) 0))) ∧ Up w wr) (fun i _ => n - (intOf i).toNat)
  case atStart => exact ⟨0, Nat.zero_le _, rfl, by rw [List.take_zero, List.nil_append, Nat.sub_zero]; exact HO, hu1⟩
  case round =>
    obtain ⟨k, hk, rfl, hown, hu⟩ := hrel
    clear HO hu1
    by_cases hlt : k < n
    · have hkl : k < l.length := by rw [← Hn.out]; exact hlt
      have hkx : k < X.length := by rw [HX.out]; exact hlt
      obtain ⟨a, rfl, _⟩ := H.out.ad (by omega)
      have hcell : wr.cell? (a.add k) = some (.int .u32 (l[k] : Int)) := (H.out.up hu).cell a rfl k _ (us_get l k hkl)
      have HC1 := Lib.hid (HC.out l[k])
      have he := HXG.out k hkl hkx
      have hst := Lib.hid (fun w' (u : Up wr w') => show (w'.setCell ⟨w.heap.size, k, none⟩ (.int .i64 (X[k] : Int))).ownsRow w.heap.size 3 1 (.slice (some ⟨w.heap.size, 0, none⟩) n n) n (ks (X.take (k + 1) ++ List.replicate (n - (k + 1)) 0)) from by
        have := owk_bump (own_up hown.out u) k X[k]
        rwa [lay_nat X n k hkx HX.out] at this)
      have hfr : ∀ w', Up wr w' → w'.frozen? ⟨w.heap.size, k, none⟩ = false := fun w' u => (own_up hown.out u).frozenAt k
      have hce : ∀ w', Up wr w' → ∃ v, w'.cell? ⟨w.heap.size, k, none⟩ = some v := fun w' u => by
        have hk2 : k < (X.take k ++ List.replicate (n - k) 0).length := by rw [List.length_append, List.length_take, List.length_replicate]; omega
        exact ⟨_, ((own_up hown.out u).cellAt k (by omega)).trans (ks_get _ k hk2)⟩
      rw [he] at hst
      clear he hown HXG
      generalize clsOf l[k] = v at *
      generalize l[k] = x at *
      go_wp2_with fail
      refine (HC1.out _).mono ?_
      rintro e w2 ⟨rfl, hu2⟩
      have hfr2 := hfr w2 hu2
      obtain ⟨vx, hcx⟩ := hce w2 hu2
      have HST := Lib.hid (hst.out w2 hu2)
      have HU := Lib.hid (Up.setCell (hu.trans hu2) (Nat.le_refl _) k (.int .i64 (v : Int)))
      clear hfr hce hst
      go_wp2_with fail
      go_roundw
      case rel => exact ⟨k + 1, by omega, by go_num, HST, HU.out⟩
      case measure => simp [intOf]; omega
    · obtain rfl : k = n := by omega
      have hr := hown.out
      rw [Nat.sub_self, List.replicate_zero, List.append_nil, List.take_of_length_le (by rw [HX.out]; omega)] at hr
      have HR := Lib.hid hr
      clear hr hown HXG
      go_wp2_with fail
      go_ret
      exact ⟨some ⟨w.heap.size, 0, none⟩, k, by rw [HX.out]; rfl, by rw [HX.out]; exact HR.out, hu⟩

/-- How many marks stand ahead of the first that is none. -/
def mks : List Nat → Nat
  | [] => 0
  | c :: l => if c = 0 then 0 else mks l + 1
theorem mks_le : ∀ l : List Nat, mks l ≤ l.length
  | [] => Nat.le_refl _
  | c :: l => by unfold mks; split <;> simp [mks_le l]
theorem mks_skip : ∀ (l : List Nat) (k : Nat), (∀ i (_ : i < k) (h2 : i < l.length), l[i] ≠ 0) → ∀ h : k < l.length, l[k] = 0 → mks l = k
  | [], k, _, h, _ => by simp at h
  | c :: l, 0, _, h, h0 => by unfold mks; rw [if_pos (show c = 0 from h0)]
  | c :: l, k + 1, ha, h, h0 => by
    unfold mks
    rw [if_neg (show ¬ c = 0 from ha 0 (by omega) (by simp)), mks_skip l k (fun i h1 h2 => ha (i + 1) (by omega) (by simpa using h2)) (by simpa using h) h0]
theorem mks_all : ∀ (l : List Nat), (∀ i (h : i < l.length), l[i] ≠ 0) → mks l = l.length
  | [], _ => rfl
  | c :: l, ha => by
    unfold mks
    rw [if_neg (show ¬ c = 0 from ha 0 (by simp)), mks_all l (fun i h => ha (i + 1) (by simpa using h))]
    rfl
theorem mks_mark : ∀ (l : List Nat) (i : Nat) (_ : i < mks l) (h2 : i < l.length), l[i] ≠ 0
  | [], i, _, h2 => by simp at h2
  | c :: l, i, h, h2 => by
    unfold mks at h
    split at h
    · omega
    · rename_i hc
      cases i with
      | zero => exact hc
      | succ i => exact mks_mark l i (by omega) (by simpa using h2)
theorem mks_end : ∀ (l : List Nat) (h : mks l < l.length), l[mks l] = 0
  | [], h => by simp at h
  | c :: l, h => by
    by_cases hc : c = 0
    · have : mks (c :: l) = 0 := by unfold mks; rw [if_pos hc]
      simp only [this]
      exact hc
    · have : mks (c :: l) = mks l + 1 := by rw [mks, if_neg hc]
      rw [this] at h
      simp only [this]
      exact mks_end l (by simpa using h)

set_option maxRecDepth 100000 in
theorem index_prog (A : Option Addr) (n d : Nat) (l : List Nat) (w : World) (h : Rd w A d (ks l)) (hn : n = l.length) :
    Calls Try.prog 24 #[.slice A n d, .int .i64 0] w fun e w' => e = .returned (.int .i64 (if mks l < n then (mks l : Int) else -1)) ∧ w = w' := by
  have H := Lib.hid h
  have Hn := Lib.hid hn
  have hf := h.fit
  have hmx := h.max
  rw [ks_len, ← hn] at hf
  unfold maxLen at hmx
  have H1 := Lib.hid (mks_skip l)
  have H2 := Lib.hid (mks_all l)
  obtain ⟨q, hq⟩ : ∃ q : Int, (if mks l < n then (mks l : Int) else -1) = q := ⟨_, rfl⟩
  rw [hq]
  have HQ := Lib.hid hq
  clear h hn hq
  go_enter Try.func24, Try.ntmps24
  go_wp2_with fail
  go_loopw [8] (fun i wr => ∃ k : Nat, k ≤ n ∧ i = .int .i64 (k : Int) ∧ Hid (∀ i (h : i < k) (h2 : i < l.length), l[i] ≠ 0) ∧ wr = w) (fun i _ => n - (intOf i).toNat)
  case atStart => exact ⟨0, Nat.zero_le _, rfl, Lib.hid (fun i h => by omega), rfl⟩
  case round =>
    obtain ⟨k, hk, rfl, ha, rfl⟩ := hrel
    by_cases hlt : k < n
    · have hkl : k < l.length := by rw [← Hn.out]; exact hlt
      obtain ⟨a, rfl, _⟩ := H.out.ad (by omega)
      have hcell : wr.cell? (a.add k) = some (.int .i64 (l[k] : Int)) := H.out.cell a rfl k _ (ks_get l k hkl)
      have hA := Lib.hid (H1.out k ha.out hkl)
      have hB := Lib.hid (fun (h0 : l[k] ≠ 0) i (h : i < k + 1) (h2 : i < l.length) => show l[i] ≠ 0 from by
        by_cases e : i = k
        · subst e; exact h0
        · exact ha.out i (by omega) h2)
      clear H1 H2
      generalize hx : l[k] = x at *
      by_cases h0 : x = 0
      · subst h0
        have e := hA.out rfl
        have hqk : q = (k : Int) := by rw [← HQ.out, e, if_pos hlt]
        subst hqk
        clear hA hB ha e hx
        go_wp2_with fail
        go_ret
        exact ⟨rfl, rfl⟩
      · have hb : ((0 : Int) == (x : Int)) = false := by simp; omega
        have HB := Lib.hid (hB.out h0)
        clear hA hB ha hx
        go_wp2_with fail
        go_roundw
        case rel => exact ⟨k + 1, by omega, by go_num, HB, trivial⟩
        case measure => simp [intOf]; omega
    · obtain rfl : k = n := by omega
      have e := H2.out (fun i h => ha.out i (by rw [Hn.out]; exact h) h)
      have hqk : q = -1 := by rw [← HQ.out, e, ← Hn.out, if_neg (Nat.lt_irrefl _)]
      subst hqk
      clear H1 H2 ha e
      go_wp2_with fail
      go_ret
      exact ⟨rfl, rfl⟩

set_option maxRecDepth 100000 in
theorem marks_prog (A : Option Addr) (n d : Nat) (l : List Nat) (w : World) (h : Rd w A d (ks l)) (hn : n = l.length) :
    Calls Try.prog 18 #[.slice A n d] w fun e w' => e = .returned (.int .i64 (mks l : Int)) ∧ w = w' := by
  have C := Lib.hid (index_prog A n d l w h hn)
  have hle := mks_le l
  rw [← hn] at hle
  clear h hn
  generalize mks l = m at *
  by_cases hlt : m < n
  · rw [if_pos hlt] at C
    go_enter Try.func18, Try.ntmps18
    go_wp2_with fail
    refine C.out.mono ?_
    rintro e w2 ⟨rfl, rfl⟩
    go_wp2_with fail
    go_ret
    exact ⟨rfl, rfl⟩
  · rw [if_neg hlt] at C
    obtain rfl : m = n := by omega
    go_enter Try.func18, Try.ntmps18
    go_wp2_with fail
    refine C.out.mono ?_
    rintro e w2 ⟨rfl, rfl⟩
    go_wp2_with fail
    go_ret
    exact ⟨rfl, rfl⟩

end Go.Proofs.Ythkbjbbffkgpfaa
