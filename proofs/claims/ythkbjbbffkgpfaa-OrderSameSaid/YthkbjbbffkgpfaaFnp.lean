/- The program's find: its contract; cmp.Or. -/
import Derived.Test.YthkbjbbffkgpfaaFnd
import Derived.Laws.EntriesVeiled
namespace Go.Proofs.Ythkbjbbffkgpfaa
open Go.RowKit

theorem At.alloc {w : World} {b : Nat} {v : Value} (h : At w b v) (o : Obj) : At (w.alloc o) b v := h.up ((Up.refl w).alloc o)
theorem boxes (w : World) (v1 v2 v3 v4 : Value) (t1 t2 t3 t4 : TypeId) : ∃ W, (((w.alloc (.cells #[v1] t1)).alloc (.cells #[v2] t2)).alloc (.cells #[v3] t3)).alloc (.cells #[v4] t4) = W ∧
    At W w.heap.size v1 ∧ At W (w.heap.size + 1) v2 ∧ At W (w.heap.size + 1 + 1) v3 ∧ At W (w.heap.size + 1 + 1 + 1) v4 ∧ Up w W := by
  have e1 : ∀ (w : World) o, (w.alloc o).heap.size = w.heap.size + 1 := fun w o => by simp
  refine ⟨_, rfl, (((At.new w v1 t1).alloc _).alloc _).alloc _, ?_, ?_, ?_, (((Up.refl w).alloc _).alloc _).alloc _ |>.alloc _⟩
  · have := (((At.new (w.alloc (.cells #[v1] t1)) v2 t2).alloc (.cells #[v3] t3)).alloc (.cells #[v4] t4))
    rwa [e1] at this
  · have := ((At.new ((w.alloc (.cells #[v1] t1)).alloc (.cells #[v2] t2)) v3 t3).alloc (.cells #[v4] t4))
    rwa [e1, e1] at this
  · have := (At.new (((w.alloc (.cells #[v1] t1)).alloc (.cells #[v2] t2)).alloc (.cells #[v3] t3)) v4 t4)
    rwa [e1, e1, e1] at this

set_option maxRecDepth 100000 in
theorem find_prog (s : ByteArray) (size N g : Nat) (cb : Array Value) (eg : ∀ args w, (callFunc g args).run Try.prog w = .ok (.enter g args) w)
    (hN : N * size ≤ s.size) (hNi : (s.size : Int) / (size : Int) = (N : Int)) (hz : 0 < size) (hs : s.size ≤ 100000) (hn : N ≤ 100000) (cf : Nat → Int) (w : World)
    (hf : Hid (∀ i, i < N → ∀ w1, Up w w1 → Calls Try.prog g (#[.string (rowS s size i)] ++ cb) w1 fun e w' => e = .returned (.int .i64 (cf i)) ∧ Up w1 w'))
    (hmono : Hid (∀ i j, i ≤ j → j < N → 0 < cf j → 0 < cf i)) :
    Calls Try.prog 26 #[.string s, .int .i64 (size : Int), .func (.func g) #[] cb] w fun e w' => ∃ (r : Nat) (ok : Bool), e = .returned (.tuple #[.string (if ok then rowS s size r else ⟨#[]⟩), .bool ok]) ∧ FindP cf N r ok ∧ Up w w' := by
  have hz1 : ((size : Int) == 0) = false := by simp; omega
  have hz2 : 0 < (size : Int) := by omega
  have HN := Lib.hid hN
  clear hN
  go_enter Try.func26, Try.ntmps26
  go_wp2_with fail
  obtain ⟨W, hW, A1, A2, A3, A4, hu⟩ := boxes w (.string s) (.int .i64 (size : Int)) (.func (.func g) #[] cb) (.func (.func 33) #[] #[.pointer (some ⟨w.heap.size, 0, none⟩), .pointer (some ⟨w.heap.size + 1, 0, none⟩)]) 9 3 42 47
  rw [hW]
  have HW := Lib.hid hW
  clear hW
  have hstep := Lib.hid (fun i (hi : i < N) w1 (u : Up W w1) => step_prog s size i w.heap.size (w.heap.size + 1) (w.heap.size + 1 + 1) (w.heap.size + 1 + 1 + 1) g cb eg (Nat.le_trans (Nat.mul_le_mul_right size hi) HN.out) hs (by omega) (cf i) w1 (A1.up u) (A2.up u) (A3.up u) (A4.up u) (Lib.hid (fun w2 u2 => hf.out i hi w2 ((hu.trans u).trans u2))))
  refine (sfind_prog N hn _ _ cf W hstep hmono).mono ?_
  rintro e w1 ⟨r, ok, rfl, hP, hu1⟩
  have HP := Lib.hid hP
  clear hstep hf hmono hP
  have hr := HP.out.1
  have B1 := A1.up hu1
  have B2 := A2.up hu1
  have B4 := A4.up hu1
  cases ok with
  | false =>
    clear A1 A2 A3 A4 B1 B2 B4
    go_wp2
    go_ret2
    exact ⟨r, false, rfl, HP.out, hu.trans hu1⟩
  | true =>
    have hlt : r < N := (HP.out.2.2.2.1 rfl).1
    have hk := cut_prog s size r w.heap.size (w.heap.size + 1) (Nat.le_trans (Nat.mul_le_mul_right size hlt) HN.out) hs (by omega) w1 B1 B2
    have c4 := B4.2
    clear A1 A2 A3 A4 B1 B2 B4
    go_wp2_with fail
    refine hk.mono ?_
    rintro e w2 ⟨rfl, rfl⟩
    go_wp2
    go_ret2
    exact ⟨r, true, rfl, HP.out, hu.trans hu1⟩

end Go.Proofs.Ythkbjbbffkgpfaa
