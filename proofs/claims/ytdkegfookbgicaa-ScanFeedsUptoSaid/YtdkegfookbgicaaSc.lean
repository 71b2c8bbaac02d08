/- A scan in memory; bytes.Clone, New, State, Fault, End. -/
import Derived.Test.YtdkegfookbgicaaGoes
import Derived.BigQuiet
import Derived.Lib.SliceRun
namespace Go.Proofs.Ytdkegfookbgicaa
open Go.RowKit

/-- At block g lies a scan of this state; what is pending lies in block k, or nowhere. -/
structure Sc (w : World) (g k : Nat) (s : U.St) : Prop where
  obj : ∃ v, w.heap[g]? = some (.cells #[.int .i64 s.seen, .int .i64 s.bad, v] 53 (0, 0)) ∧ w.ownsRow 0 5 1 v s.pend.length (bs s.pend) ∧ (v.ownBlock = none ∨ (v.ownBlock = some k ∧ k ≠ g))
  klt : k < w.heap.size

theorem Sc.up {w w' : World} {g k : Nat} {s : U.St} (h : Sc w g k s) (hu : Up w w') : Sc w' g k s := by
  obtain ⟨⟨v, h1, h2, h3⟩, h4⟩ := h
  refine ⟨⟨v, obj_up h1 hu, h2.kept (row := none) ⟨hu.os, hu.tape, hu.output, hu.size, fun i hi _ => hu.block i hi⟩ ?_, h3⟩, Nat.lt_of_lt_of_le h4 hu.size⟩
  cases hv : v.ownBlock <;> simp
theorem Sc.fr {w w' : World} {g k g1 k1 : Nat} {s : U.St} (h : Sc w g k s) (hu : Fr g1 k1 w w') (e1 : g ≠ g1) (e2 : g ≠ k1) (e3 : k ≠ g1) (e4 : k ≠ k1) : Sc w' g k s := by
  obtain ⟨⟨v, h1, h2, h3⟩, h4⟩ := h
  refine ⟨⟨v, obj_fr h1 hu e1 e2, ⟨h2.1, ?_⟩, h3⟩, Nat.lt_of_lt_of_le h4 hu.size⟩
  rcases h2.2 with hn | ⟨b, cap, cur, rfl, hb, hgg, rest⟩
  · exact .inl hn
  · refine .inr ⟨b, cap, cur, rfl, hb, obj_fr hgg hu ?_ ?_, rest⟩
    · rcases h3 with h3 | ⟨h3, _⟩ <;> simp [Value.ownBlock] at h3; omega
    · rcases h3 with h3 | ⟨h3, _⟩ <;> simp [Value.ownBlock] at h3; omega
theorem Sc.lt {w : World} {g k : Nat} {s : U.St} (h : Sc w g k s) : g < w.heap.size := by
  obtain ⟨⟨v, h1, _⟩, _⟩ := h
  exact obj_lt h1

theorem eq_nil (w : World) (A : Option Addr) (n c : Nat) : (binOp .eql 22 (.slice A n c) (.slice none 0 0)).run Try.prog w = .ok (.bool A.isNone) w :=
  Go.Lib.run_eql_slice_nil w _ _ A n c 0 0 uB
theorem clone_code (A : Option Addr) (c n : Nat) (l : List UInt8) (w : World) (h : Rd w A c (bs l)) (hn : n = l.length) (hb : n ≤ 140737488355328) :
    Calls Try.prog 31 #[.slice A n c] w fun e w' => ∃ A' c', e = .returned (.slice A' n c') ∧ Rd w' A' c' (bs l) ∧ Up w w' ∧ w'.ownsRow w.heap.size 5 1 (.slice A' n c') n (bs l) := by
  cases A with
  | none =>
    have hc : c = 0 := by
      rcases Nat.eq_zero_or_pos c with h0 | h0
      · exact h0
      · obtain ⟨a, ha, _⟩ := h.ad h0; cases ha
    have hl : l = [] := by
      have := h.fit
      rw [bs_len] at this
      exact List.eq_nil_of_length_eq_zero (by omega)
    subst hl hn hc
    clear h
    have hq := eq_nil w none 0 0
    go_enter Try.func31, Try.ntmps31
    go_wp2
    go_ret
    exact ⟨none, 0, rfl, Rd.empty w, Up.refl w, World.ownsRow_nil w _ _ _⟩
  | some a =>
    have hf := h.fit
    have hmx := h.max
    unfold maxLen at hmx
    rw [bs_len] at hf
    obtain ⟨A', c', w', hrun, hrd, hu, hown⟩ := elB.copy w 22 h (m := n) (by rw [bs_len]; exact hn) (one_bs l) (by omega) (by decide)
    have HR := Lib.hid hrun
    clear hrun hn hf hmx
    have hq : (binOp .eql 22 (.slice (some a) n c) (.slice none 0 0)).run Try.prog w = .ok (.bool false) w := eq_nil w (some a) n c
    go_enter Try.func31, Try.ntmps31
    go_wp2_with (at_builtin; refine wpList_app rfl _ _ _ rfl rfl rfl HR.out ?_)
    go_ret
    exact ⟨A', c', rfl, hrd, hu, hown⟩

theorem new_code (w : World) :
    Calls Try.prog 12 #[] w fun e w' => ∃ g, e = .returned (.pointer (some ⟨g, 0, none⟩)) ∧ Sc w' g g U.St.new ∧ Up w w' ∧ w.heap.size ≤ g := by
  go_enter Try.func12, Try.ntmps12
  go_wp2
  go_ret
  refine ⟨_, rfl, ⟨⟨.slice none 0 0, heap_alloc_new w _, World.ownsRow_nil _ _ _ _, .inl rfl⟩, by simp⟩, (Up.refl w).alloc _, Nat.le_refl _⟩

theorem sc_nil_fault (w : World) : Calls Try.prog 21 #[.pointer none] w fun e w' => e = .returned (.int .i64 (-1)) ∧ Up w w' := by
  go_enter Try.func21, Try.ntmps21
  go_wp2
  go_ret
  exact ⟨rfl, Up.refl w⟩
theorem sc_nil_end (w : World) : Calls Try.prog 19 #[.pointer none] w fun e w' => e = .returned (.int .i64 (-1)) ∧ Up w w' := by
  go_enter Try.func19, Try.ntmps19
  go_wp2
  go_ret
  exact ⟨rfl, Up.refl w⟩
theorem sc_nil_feed (w : World) (v : Value) : Calls Try.prog 14 #[.pointer none, v] w fun e w' => e = .returned (.int .i64 1) ∧ Up w w' := by
  go_enter Try.func14, Try.ntmps14
  go_wp2
  go_ret
  exact ⟨rfl, Up.refl w⟩

theorem sc_fault {w : World} {g k : Nat} {s : U.St} (h : Sc w g k s) : Calls Try.prog 21 #[.pointer (some ⟨g, 0, none⟩)] w fun e w' => e = .returned (.int .i64 s.bad) ∧ Up w w' := by
  obtain ⟨⟨v, h1, _⟩, _⟩ := h
  have c1 : w.cell? ⟨g, 1, none⟩ = some (.int .i64 s.bad) := obj_cell h1 1
  clear h1
  go_enter Try.func21, Try.ntmps21
  go_wp2
  go_ret
  exact ⟨rfl, Up.refl w⟩

/-- A scan's pending bytes, as its field holds them. -/
theorem Sc.pend {w : World} {g k : Nat} {s : U.St} (h : Sc w g k s) : ∃ A c, Rd w A c (bs s.pend) ∧ w.heap[g]? = some (.cells #[.int .i64 s.seen, .int .i64 s.bad, .slice A s.pend.length c] 53 (0, 0)) ∧
    w.ownsRow 0 5 1 (.slice A s.pend.length c) s.pend.length (bs s.pend) ∧ ((Value.slice A s.pend.length c).ownBlock = none ∨ ((Value.slice A s.pend.length c).ownBlock = some k ∧ k ≠ g)) := by
  obtain ⟨⟨v, h1, h2, h3⟩, _⟩ := h
  obtain ⟨A, c, rfl, hr⟩ := own_rd h2
  exact ⟨A, c, hr, h1, h2, h3⟩

theorem sc_end {w : World} {g k : Nat} {s : U.St} (h : Sc w g k s) (hp : s.pend.length ≤ 3) (h0 : 0 ≤ s.seen) (h1 : s.seen ≤ 1099511627776) : Calls Try.prog 19 #[.pointer (some ⟨g, 0, none⟩)] w fun e w' => e = .returned (.int .i64 s.end) ∧ Up w w' := by
  obtain ⟨A, c, hr, ho, _, _⟩ := h.pend
  have c0 : w.cell? ⟨g, 0, none⟩ = some (.int .i64 s.seen) := obj_cell ho 0
  have c1 : w.cell? ⟨g, 1, none⟩ = some (.int .i64 s.bad) := obj_cell ho 1
  have c2 : w.cell? ⟨g, 2, none⟩ = some (.slice A s.pend.length c) := obj_cell ho 2
  clear ho h hr
  unfold U.St.end
  obtain ⟨seen, bad, pend⟩ := s
  simp only at *
  by_cases he : pend = []
  · subst he
    rw [if_pos rfl]
    go_enter Try.func19, Try.ntmps19
    go_wp2
    go_ret
    exact ⟨rfl, Up.refl w⟩
  · rw [if_neg he]
    have hl : 0 < pend.length := List.length_pos_iff.2 he
    clear he
    generalize pend.length = n at *
    go_enter Try.func19, Try.ntmps19
    go_wp2
    go_quiet (fail)
    go_wp2
    go_ret
    exact ⟨rfl, (Up.refl w).drewN _⟩

end Go.Proofs.Ytdkegfookbgicaa
