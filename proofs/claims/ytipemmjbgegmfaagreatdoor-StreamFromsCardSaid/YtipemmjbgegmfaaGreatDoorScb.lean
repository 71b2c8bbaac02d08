/- Scb: one text of Goes Sc. -/
import Derived.Test.YtipemmjbgegmfaaGreatDoorSca
import Derived.Test.YtipemmjbgegmfaaGreatDoorCdx
import Derived.BigQuiet
import Derived.Lib.SliceRun

/- scan.goesOn, scan.Open. Written by program (wip/tools/goes.py). -/
namespace Go.Proofs.YtipemmjbgegmfaaGreatDoor
open Go.RowKit

theorem ret_bool' {x y : Bool} (h : x = y) : Ending.returned (.bool x) = .returned (.bool y) := by rw [h]

set_option maxRecDepth 100000 in
theorem goes_1 (a : Addr) (c : Nat) (b0 x : UInt8) (w : World) (h : Rd w (some a) c (bs [b0])) :
    Calls Tryz.prog 62 #[.slice (some a) 1 c, .int .u8 (x.toNat : Int)] w fun e w' => e = .returned (.bool (decide (U.goes [b0] x))) ∧ Up w w' := by
  obtain ⟨o, ho⟩ : ∃ o, U.one ([b0] ++ [x, 128, 128]) = o := ⟨_, rfl⟩
  have hd : decide (U.goes [b0] x) = decide (1 < o.2) := by rw [← ho]; rfl
  rw [hd]
  have HO := Lib.hid ho
  clear hd ho
  have hg0 := heap_alloc_new w (.cells #[.int .u8 0, .int .u8 0, .int .u8 0, .int .u8 0, .int .u8 0, .int .u8 0] 98)
  have hr0 := h.up ((Up.refl w).alloc (.cells #[.int .u8 0, .int .u8 0, .int .u8 0, .int .u8 0, .int .u8 0, .int .u8 0] 98))
  generalize hw0 : w.alloc (.cells #[.int .u8 0, .int .u8 0, .int .u8 0, .int .u8 0, .int .u8 0, .int .u8 0] 98) = w0 at *
  obtain ⟨w1, hrun, hg1, hf1⟩ := copy_bytes hg0 3 (dLen := 6) (dCap := 6) (n := 1) hr0 rfl (by omega) (by decide)
  subst hw0
  have q1 : w1.cell? ⟨w.heap.size, 1, none⟩ = some (.int .u8 0) := obj_cell hg1 1
  have f1 := obj_frozen hg1 1
  have q2 : w1.cell? ⟨w.heap.size, 2, none⟩ = some (.int .u8 0) := obj_cell hg1 2
  have f2 := obj_frozen hg1 2
  have q3 : w1.cell? ⟨w.heap.size, 3, none⟩ = some (.int .u8 0) := obj_cell hg1 3
  have f3 := obj_frozen hg1 3
  have HG := Lib.hid hg1
  have HF := Lib.hid hf1
  clear hg1 hf1 hg0 hr0
  go_enter Tryz.func62, Tryz.ntmps62
  go_wp2_with fail
  have hg4 := obj_set (obj_set (obj_set HG.out 1 (.int .u8 (x.toNat : Int))) 2 (.int .u8 128)) 3 (.int .u8 128)
  have hf4 := (((Fr.of_up ((Up.refl w).alloc (.cells #[.int .u8 0, .int .u8 0, .int .u8 0, .int .u8 0, .int .u8 0, .int .u8 0] 98)) w.heap.size w.heap.size).trans HF.out (.inl rfl) (.inl rfl)).setCell (p := ⟨w.heap.size, 1, none⟩) (.inl rfl) (.int .u8 (x.toNat : Int))).setCell (p := ⟨w.heap.size, 2, none⟩) (.inl rfl) (.int .u8 128) |>.setCell (p := ⟨w.heap.size, 3, none⟩) (.inl rfl) (.int .u8 128)
  have hu4 := (Up.refl w).fr hf4 (Nat.le_refl _) (Nat.le_refl _)
  have hr4 := Rd.obj hg4 (xs := bs ([b0] ++ [x, 128, 128])) (c := 6) (by rw [bs_len]; simp) (by unfold maxLen; omega) rfl
  have hone := one_code _ _ 4 _ _ hr4 rfl
  rw [HO.out] at hone
  clear hr4 hg4 hf4 q1 q2 q3 f1 f2 f3 hrun HG HF
  refine hone.mono ?_
  rintro e w5 ⟨rfl, hu5⟩
  clear hone
  go_wp2_with fail
  go_ret
  exact ⟨ret_bool' (by simp <;> omega), hu4.trans hu5⟩

set_option maxRecDepth 100000 in
theorem goes_2 (a : Addr) (c : Nat) (b0 b1 x : UInt8) (w : World) (h : Rd w (some a) c (bs [b0, b1])) :
    Calls Tryz.prog 62 #[.slice (some a) 2 c, .int .u8 (x.toNat : Int)] w fun e w' => e = .returned (.bool (decide (U.goes [b0, b1] x))) ∧ Up w w' := by
  obtain ⟨o, ho⟩ : ∃ o, U.one ([b0, b1] ++ [x, 128, 128]) = o := ⟨_, rfl⟩
  have hd : decide (U.goes [b0, b1] x) = decide (2 < o.2) := by rw [← ho]; rfl
  rw [hd]
  have HO := Lib.hid ho
  clear hd ho
  have hg0 := heap_alloc_new w (.cells #[.int .u8 0, .int .u8 0, .int .u8 0, .int .u8 0, .int .u8 0, .int .u8 0] 98)
  have hr0 := h.up ((Up.refl w).alloc (.cells #[.int .u8 0, .int .u8 0, .int .u8 0, .int .u8 0, .int .u8 0, .int .u8 0] 98))
  generalize hw0 : w.alloc (.cells #[.int .u8 0, .int .u8 0, .int .u8 0, .int .u8 0, .int .u8 0, .int .u8 0] 98) = w0 at *
  obtain ⟨w1, hrun, hg1, hf1⟩ := copy_bytes hg0 3 (dLen := 6) (dCap := 6) (n := 2) hr0 rfl (by omega) (by decide)
  subst hw0
  have q2 : w1.cell? ⟨w.heap.size, 2, none⟩ = some (.int .u8 0) := obj_cell hg1 2
  have f2 := obj_frozen hg1 2
  have q3 : w1.cell? ⟨w.heap.size, 3, none⟩ = some (.int .u8 0) := obj_cell hg1 3
  have f3 := obj_frozen hg1 3
  have q4 : w1.cell? ⟨w.heap.size, 4, none⟩ = some (.int .u8 0) := obj_cell hg1 4
  have f4 := obj_frozen hg1 4
  have HG := Lib.hid hg1
  have HF := Lib.hid hf1
  clear hg1 hf1 hg0 hr0
  go_enter Tryz.func62, Tryz.ntmps62
  go_wp2_with fail
  have hg4 := obj_set (obj_set (obj_set HG.out 2 (.int .u8 (x.toNat : Int))) 3 (.int .u8 128)) 4 (.int .u8 128)
  have hf4 := (((Fr.of_up ((Up.refl w).alloc (.cells #[.int .u8 0, .int .u8 0, .int .u8 0, .int .u8 0, .int .u8 0, .int .u8 0] 98)) w.heap.size w.heap.size).trans HF.out (.inl rfl) (.inl rfl)).setCell (p := ⟨w.heap.size, 2, none⟩) (.inl rfl) (.int .u8 (x.toNat : Int))).setCell (p := ⟨w.heap.size, 3, none⟩) (.inl rfl) (.int .u8 128) |>.setCell (p := ⟨w.heap.size, 4, none⟩) (.inl rfl) (.int .u8 128)
  have hu4 := (Up.refl w).fr hf4 (Nat.le_refl _) (Nat.le_refl _)
  have hr4 := Rd.obj hg4 (xs := bs ([b0, b1] ++ [x, 128, 128])) (c := 6) (by rw [bs_len]; simp) (by unfold maxLen; omega) rfl
  have hone := one_code _ _ 5 _ _ hr4 rfl
  rw [HO.out] at hone
  clear hr4 hg4 hf4 q2 q3 q4 f2 f3 f4 hrun HG HF
  refine hone.mono ?_
  rintro e w5 ⟨rfl, hu5⟩
  clear hone
  go_wp2_with fail
  go_ret
  exact ⟨ret_bool' (by simp <;> omega), hu4.trans hu5⟩

set_option maxRecDepth 100000 in
theorem goes_3 (a : Addr) (c : Nat) (b0 b1 b2 x : UInt8) (w : World) (h : Rd w (some a) c (bs [b0, b1, b2])) :
    Calls Tryz.prog 62 #[.slice (some a) 3 c, .int .u8 (x.toNat : Int)] w fun e w' => e = .returned (.bool (decide (U.goes [b0, b1, b2] x))) ∧ Up w w' := by
  obtain ⟨o, ho⟩ : ∃ o, U.one ([b0, b1, b2] ++ [x, 128, 128]) = o := ⟨_, rfl⟩
  have hd : decide (U.goes [b0, b1, b2] x) = decide (3 < o.2) := by rw [← ho]; rfl
  rw [hd]
  have HO := Lib.hid ho
  clear hd ho
  have hg0 := heap_alloc_new w (.cells #[.int .u8 0, .int .u8 0, .int .u8 0, .int .u8 0, .int .u8 0, .int .u8 0] 98)
  have hr0 := h.up ((Up.refl w).alloc (.cells #[.int .u8 0, .int .u8 0, .int .u8 0, .int .u8 0, .int .u8 0, .int .u8 0] 98))
  generalize hw0 : w.alloc (.cells #[.int .u8 0, .int .u8 0, .int .u8 0, .int .u8 0, .int .u8 0, .int .u8 0] 98) = w0 at *
  obtain ⟨w1, hrun, hg1, hf1⟩ := copy_bytes hg0 3 (dLen := 6) (dCap := 6) (n := 3) hr0 rfl (by omega) (by decide)
  subst hw0
  have q3 : w1.cell? ⟨w.heap.size, 3, none⟩ = some (.int .u8 0) := obj_cell hg1 3
  have f3 := obj_frozen hg1 3
  have q4 : w1.cell? ⟨w.heap.size, 4, none⟩ = some (.int .u8 0) := obj_cell hg1 4
  have f4 := obj_frozen hg1 4
  have q5 : w1.cell? ⟨w.heap.size, 5, none⟩ = some (.int .u8 0) := obj_cell hg1 5
  have f5 := obj_frozen hg1 5
  have HG := Lib.hid hg1
  have HF := Lib.hid hf1
  clear hg1 hf1 hg0 hr0
  go_enter Tryz.func62, Tryz.ntmps62
  go_wp2_with fail
  have hg4 := obj_set (obj_set (obj_set HG.out 3 (.int .u8 (x.toNat : Int))) 4 (.int .u8 128)) 5 (.int .u8 128)
  have hf4 := (((Fr.of_up ((Up.refl w).alloc (.cells #[.int .u8 0, .int .u8 0, .int .u8 0, .int .u8 0, .int .u8 0, .int .u8 0] 98)) w.heap.size w.heap.size).trans HF.out (.inl rfl) (.inl rfl)).setCell (p := ⟨w.heap.size, 3, none⟩) (.inl rfl) (.int .u8 (x.toNat : Int))).setCell (p := ⟨w.heap.size, 4, none⟩) (.inl rfl) (.int .u8 128) |>.setCell (p := ⟨w.heap.size, 5, none⟩) (.inl rfl) (.int .u8 128)
  have hu4 := (Up.refl w).fr hf4 (Nat.le_refl _) (Nat.le_refl _)
  have hr4 := Rd.obj hg4 (xs := bs ([b0, b1, b2] ++ [x, 128, 128])) (c := 6) (by rw [bs_len]; simp) (by unfold maxLen; omega) rfl
  have hone := one_code _ _ 6 _ _ hr4 rfl
  rw [HO.out] at hone
  clear hr4 hg4 hf4 q3 q4 q5 f3 f4 f5 hrun HG HF
  refine hone.mono ?_
  rintro e w5 ⟨rfl, hu5⟩
  clear hone
  go_wp2_with fail
  go_ret
  exact ⟨ret_bool' (by simp <;> omega), hu4.trans hu5⟩

theorem goes_code (A : Option Addr) (c n : Nat) (l : List UInt8) (x : UInt8) (w : World) (h : Rd w A c (bs l)) (hn : n = l.length) (h1 : 1 ≤ n) (h3 : n ≤ 3) :
    Calls Tryz.prog 62 #[.slice A n c, .int .u8 (x.toNat : Int)] w fun e w' => e = .returned (.bool (decide (U.goes l x))) ∧ Up w w' := by
  have hf := h.fit
  rw [bs_len] at hf
  obtain ⟨a, rfl, _⟩ := h.ad (by omega)
  subst hn
  match l, h1, h3 with
  | [b0], _, _ => exact goes_1 a c b0 x w h
  | [b0, b1], _, _ => exact goes_2 a c b0 b1 x w h
  | [b0, b1, b2], _, _ => exact goes_3 a c b0 b1 b2 x w h

set_option maxRecDepth 100000 in
theorem open_code (A : Option Addr) (c n : Nat) (l : List UInt8) (w : World) (h : Rd w A c (bs l)) (hn : n = l.length) :
    Calls Tryz.prog 45 #[.slice A n c] w fun e w' => e = .returned (.bool (decide (U.opn l))) ∧ Up w w' := by
  have hf := h.fit
  have hmx := h.max
  rw [bs_len] at hf
  unfold maxLen at hmx
  have hno : (n = 0 ∨ 3 < n) → decide (U.opn l) = false := fun hh => decide_eq_false fun ho => by
    have := U.opn_len ho
    omega
  by_cases h0 : n = 0
  · rw [hno (.inl h0)]
    subst h0
    clear hno hn
    go_enter Tryz.func45, Tryz.ntmps45
    go_wp2_with fail
    go_ret
    exact ⟨rfl, Up.refl w⟩
  by_cases h3 : 3 < n
  · rw [hno (.inr h3)]
    have hn2 : n ≤ 9223372036854775807 := by omega
    have hn1 : 0 < n := by omega
    clear hno hn h0
    go_enter Tryz.func45, Tryz.ntmps45
    go_wp2_with fail
    go_ret
    exact ⟨rfl, Up.refl w⟩
  · have c1 := goes_code A c n l 128 w h hn (by omega) (by omega)
    have c2 := fun w1 (hu : Up w w1) => goes_code A c n l 191 w1 (h.up hu) hn (by omega) (by omega)
    have ho : decide (U.opn l) = (decide (U.goes l 128) || decide (U.goes l 191)) := by
      rw [Bool.eq_iff_iff]
      simp only [decide_eq_true_eq, Bool.or_eq_true]
      rw [U.opn_iff]
      constructor
      · exact fun hh => hh.2.2
      · exact fun hh => ⟨by omega, by omega, hh⟩
    rw [ho]
    have hn1 : 0 < n := by omega
    have hn3 : n ≤ 3 := by omega
    clear hno hn ho h0 h3
    cases hg : decide (U.goes l 128) with
    | true =>
      rw [hg] at c1
      clear c2 hg
      go_enter Tryz.func45, Tryz.ntmps45
      go_wp2_with fail
      refine c1.mono ?_
      rintro e w1 ⟨rfl, hu1⟩
      go_wp2_with fail
      go_ret
      exact ⟨ret_bool' rfl, hu1⟩
    | false =>
      rw [hg] at c1
      clear hg
      generalize decide (U.goes l 191) = d at *
      go_enter Tryz.func45, Tryz.ntmps45
      go_wp2_with fail
      refine c1.mono ?_
      rintro e w1 ⟨rfl, hu1⟩
      go_wp2_with fail
      refine (c2 w1 hu1).mono ?_
      rintro e w2 ⟨rfl, hu2⟩
      go_wp2_with fail
      go_ret
      exact ⟨ret_bool' rfl, hu1.trans hu2⟩

end Go.Proofs.YtipemmjbgegmfaaGreatDoor

/- A scan in memory; bytes.Clone, New, State, Fault, End. -/
namespace Go.Proofs.YtipemmjbgegmfaaGreatDoor
open Go.RowKit

theorem eq_nil (w : World) (A : Option Addr) (n c : Nat) : (binOp .eql 31 (.slice A n c) (.slice none 0 0)).run Tryz.prog w = .ok (.bool A.isNone) w :=
  Go.Lib.run_eql_slice_nil w _ _ A n c 0 0 uB
theorem clone_code (A : Option Addr) (c n : Nat) (l : List UInt8) (w : World) (h : Rd w A c (bs l)) (hn : n = l.length) (hb : n ≤ 140737488355328) :
    Calls Tryz.prog 43 #[.slice A n c] w fun e w' => ∃ A' c', e = .returned (.slice A' n c') ∧ Rd w' A' c' (bs l) ∧ Up w w' ∧ w'.ownsRow w.heap.size 5 1 (.slice A' n c') n (bs l) := by
  cases A with
  | none =>
    have hc : c = 0 := by
      rcases Nat.eq_zero_or_pos c with h0 | h0
      · exact h0
      · obtain ⟨a, ha, _⟩ := h.ad h0; cases ha
    have hl : l = [] := by
      have := h.fit
      rw [bs_len] at this
      exact List.eq_nil_of_length_eq_zero (by omega)
    subst hl hn hc
    clear h
    have hq := eq_nil w none 0 0
    go_enter Tryz.func43, Tryz.ntmps43
    go_wp2
    go_ret
    exact ⟨none, 0, rfl, Rd.empty w, Up.refl w, World.ownsRow_nil w _ _ _⟩
  | some a =>
    have hf := h.fit
    have hmx := h.max
    unfold maxLen at hmx
    rw [bs_len] at hf
    obtain ⟨A', c', w', hrun, hrd, hu, hown⟩ := elB.copy w 31 h (m := n) (by rw [bs_len]; exact hn) (one_bs l) (by omega) (by decide)
    have HR := Lib.hid hrun
    clear hrun hn hf hmx
    have hq : (binOp .eql 31 (.slice (some a) n c) (.slice none 0 0)).run Tryz.prog w = .ok (.bool false) w := eq_nil w (some a) n c
    go_enter Tryz.func43, Tryz.ntmps43
    go_wp2_with (at_builtin; refine wpList_app rfl _ _ _ rfl rfl rfl HR.out ?_)
    go_ret
    exact ⟨A', c', rfl, hrd, hu, hown⟩

end Go.Proofs.YtipemmjbgegmfaaGreatDoor
