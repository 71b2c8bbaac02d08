/- The program's own iteration over what a character is decomposed to: yield is called on each part, in order, till one says no. -/
import Derived.Test.YthdhlcafomhdbaaDoorUog
import Derived.Test.YthdhlcafomhdbaaDoorFul
import Derived.Test.YthdhlcafomhdbaaDoorOwn
import Derived.Test.YthdhlcafomhdbaaDoorHgo
import Derived.RangeFuncFrom
import Derived.RangeFuncBound
import Derived.RangeFuncLeaves
import Derived.Shelf.Abstract
import Derived.WalkKit
import Derived.OwnWalkIn
import Derived.TacticsInMore
namespace Go.Proofs.YthdhlcafomhdbaaDoor
open Go.RowKit Go.Shelf

attribute [local go_sem] Oper.semAt_some

theorem room_any (k : Nat) : Fence.wide.room k := fun d h => by cases h
theorem round_any {m m' : Nat} {P : Program} {l : Nat} {f : FuncId} {tmps : Array Value} {assign body : Code} {w : World} {R : Ending → World → Prop}
    (h : RoundIn Fence.wide m P l f tmps assign body w R) : RoundIn Fence.wide m' P l f tmps assign body w R := ⟨h.1, fun c cs _ => h.2 c cs (room_any _)⟩
theorem yield_any {m : Nat} (m' : Nat) {P : Program} {l : Nat} {args : Array Value} {W : World} {R : Ending → World → Prop} (h : YieldAt Fence.wide m P l args W R) : YieldAt Fence.wide m' P l args W R := by
  obtain ⟨fn, tmps, assign, body, hy, hR⟩ := h
  exact ⟨fn, tmps, assign, body, hy, round_any hR⟩

/-- A guarded call that is passed over. -/
theorem skip_wide {n : Nat} {P : Program} {ops : Array Oper} {Q : Exit → Act → World → Prop} {a : Act} {w : World} {rest : List Oper} {o : Oper} (j : Nat) (b : Bool)
    (hg : o.guard = some (j, b)) (hy : (yielded ops a.tmps j == some b) = false) (h : wpListIn Fence.wide n P ops Q rest (a.put o.dst undef) w) : wpListIn Fence.wide n P ops Q (o :: rest) a w :=
  wpListIn_step fun K hK => by
    have hw : Region.wanted o (yielded ops a.tmps) = false := by unfold Region.wanted; rw [hg]; exact hy
    rw [if_neg (by rw [hw]; decide)]
    exact ⟨fun _ _ => trivial, hK _ _ h⟩

/-- What yield does, as long as fewer than N have come. -/
def Yields (l n₀ N : Nat) (J Jx : List Nat → World → Prop) : Prop :=
  ∀ m pre x W, J pre W → pre.length < N → YieldAt Fence.wide m Tryd.prog l #[.int .u32 ((x : Nat) : Int)] W fun e W' =>
    (e = .returned (.bool true) ∧ J (pre ++ [x]) W' ∧ Below n₀ W W') ∨ (e = .returned (.bool false) ∧ Jx (pre ++ [x]) W')

/-- What each does with the parts L of c. -/
def Eaches (l n₀ N : Nat) (w0 : World) (J Jx : List Nat → World → Prop) (c : Nat) (L : List Nat) : Prop :=
  ∀ (n : Nat) (pre : List Nat) (W : World), Below n₀ w0 W → J pre W → pre.length + L.length ≤ N →
    CallsIn Fence.wide n Tryd.prog 24 #[.int .u32 (c : Int), .func (.yield l) #[] #[]] W fun e W' =>
      (e = .returned (.bool true) ∧ J (pre ++ L) W' ∧ Below n₀ W W') ∨ (e = .returned (.bool false) ∧ ∃ q, q ≠ [] ∧ q <+: L ∧ Jx (pre ++ q) W')

theorem below_rows {n₀ : Nat} {w0 W : World} (h0 : HRows w0) (hn : n₀ = w0.heap.size) (h : Below n₀ w0 W) : HRows W := h0.up (by subst hn; exact h)
theorem up_below {n₀ : Nat} {w0 W W' : World} (hn : n₀ = w0.heap.size) (h : Below n₀ w0 W) (u : Up W W') : Below n₀ w0 W' := h.trans (u.mono (by subst hn; exact h.size))

set_option maxRecDepth 100000 in
set_option maxHeartbeats 2000000 in
theorem each_plain {l n₀ N : Nat} {w0 : World} (h0 : HRows w0) (hn : n₀ = w0.heap.size) {J Jx : List Nat → World → Prop} (hJ : ∀ s W W', J s W → Up W W' → J s W')
    (hY : Yields l n₀ N J Jx) (c : Nat) (hs : isS c = false) (hr : decOk c = false) : Eaches l n₀ N w0 J Jx c [c] := by
  intro n pre W hb hj hN
  have hS := (callsIn_wide (n := n - 1)).2 (split_prog c W (below_rows h0 hn hb))
  have hD := fun W' => (callsIn_wide (n := n - 1)).2 (decomp_prog c W')
  rw [hs] at hS
  rw [hr] at hD
  refine callsIn_of_wp Tryd.func24 rfl trivial ?_ rfl
  simp only [Tryd.ntmps24, List.size_toArray, List.length_cons, List.length_nil, Nat.reduceAdd, Nat.reduceSub, Array.replicate_succ, Array.replicate_zero, List.push_toArray, List.append_toArray, List.nil_append, List.cons_append]
  gi_wp2_with fail
  refine ⟨trivial, fun h => (by cases h), ?_⟩
  refine hS.mono ?_
  rintro e W1 ⟨rfl, hq⟩
  have hu1 : Up W W1 := Drw.up hq
  gi_wp2_with fail
  refine ⟨trivial, fun h => (by cases h), ?_⟩
  refine (hD _).mono ?_
  rintro e W2 ⟨rfl, hu2⟩
  have hu := hu1.trans hu2
  have hY1 := hY (n - 1) pre c W2 (hJ _ _ _ hj hu) (by simp at hN; omega)
  obtain ⟨fn, tmps, assign, body, hy, hR⟩ := hY1
  gi_wp2_with fail
  refine ⟨fun h => (by cases h), ?_⟩
  refine hR.mono ?_
  rintro e W3 (⟨rfl, hj3, hb3⟩ | ⟨rfl, hx⟩)
  · gi_wp2_with fail
    go_ret
    exact .inl ⟨rfl, hj3, ((hu.mono (by subst hn; exact hb.size)).trans hb3)⟩
  · gi_wp2_with fail
    go_ret
    exact .inr ⟨rfl, [c], by simp, List.prefix_refl _, hx⟩

set_option maxRecDepth 100000 in
set_option maxHeartbeats 2000000 in
theorem each_two {l n₀ N : Nat} {w0 : World} (h0 : HRows w0) (hn : n₀ = w0.heap.size) {J Jx : List Nat → World → Prop} (hJ : ∀ s W W', J s W → Up W W' → J s W')
    (hY : Yields l n₀ N J Jx) (c : Nat) (hs : isS c = true) (ht : splT c = 0) : Eaches l n₀ N w0 J Jx c [splL c, splV c] := by
  intro n pre W hb hj hN
  have hS := (callsIn_wide (n := n - 1)).2 (split_prog c W (below_rows h0 hn hb))
  rw [hs, ht] at hS
  generalize splL c = x1 at *
  generalize splV c = x2 at *
  refine callsIn_of_wp Tryd.func24 rfl trivial ?_ rfl
  simp only [Tryd.ntmps24, List.size_toArray, List.length_cons, List.length_nil, Nat.reduceAdd, Nat.reduceSub, Array.replicate_succ, Array.replicate_zero, List.push_toArray, List.append_toArray, List.nil_append, List.cons_append]
  gi_wp2_with (refine skip_wide _ _ rfl rfl ?_)
  refine ⟨trivial, fun h => (by cases h), ?_⟩
  refine hS.mono ?_
  rintro e W1 ⟨rfl, hq⟩
  have hu : Up W W1 := Drw.up hq
  have hY1 := hY (n - 1) pre x1 W1 (hJ _ _ _ hj hu) (by simp at hN; omega)
  obtain ⟨fn, tmps, assign, body, hy, hR⟩ := hY1
  gi_wp2_with (refine skip_wide _ _ rfl rfl ?_)
  refine ⟨fun h => (by cases h), ?_⟩
  refine hR.mono ?_
  clear hR hy
  rintro e W2 (⟨rfl, hj2, hb2⟩ | ⟨rfl, hx⟩)
  · obtain ⟨fn, tmps, assign, body, hy, hR⟩ := hY (n - 1) _ x2 W2 hj2 (by simp at hN ⊢; omega)
    gi_wp2_with (refine skip_wide _ _ rfl rfl ?_)
    refine ⟨fun h => (by cases h), ?_⟩
    refine hR.mono ?_
    clear hR hy
    rintro e W3 (⟨rfl, hj3, hb3⟩ | ⟨rfl, hx⟩)
    · gi_wp2_with (refine skip_wide _ _ rfl rfl ?_)
      go_ret
      exact .inl ⟨rfl, by simpa using hj3, ((hu.mono (by subst hn; exact hb.size)).trans hb2).trans hb3⟩
    · gi_wp2_with (refine skip_wide _ _ rfl rfl ?_)
      go_ret
      exact .inr ⟨rfl, [x1, x2], by simp, List.prefix_refl _, by simpa using hx⟩
  · gi_wp2_with (refine skip_wide _ _ rfl rfl ?_)
    go_ret
    exact .inr ⟨rfl, [x1], by simp, ⟨[x2], rfl⟩, hx⟩

set_option maxRecDepth 100000 in
set_option maxHeartbeats 4000000 in
theorem each_three {l n₀ N : Nat} {w0 : World} (h0 : HRows w0) (hn : n₀ = w0.heap.size) {J Jx : List Nat → World → Prop} (hJ : ∀ s W W', J s W → Up W W' → J s W')
    (hY : Yields l n₀ N J Jx) (c : Nat) (hs : isS c = true) (ht : splT c ≠ 0) : Eaches l n₀ N w0 J Jx c [splL c, splV c, splT c] := by
  intro n pre W hb hj hN
  have hS := (callsIn_wide (n := n - 1)).2 (split_prog c W (below_rows h0 hn hb))
  rw [hs] at hS
  generalize splL c = x1 at *
  generalize splV c = x2 at *
  generalize splT c = x3 at *
  have ht1 : ((x3 : Int) == 0) = false := by rw [beq_eq_false_iff_ne]; omega
  refine callsIn_of_wp Tryd.func24 rfl trivial ?_ rfl
  simp only [Tryd.ntmps24, List.size_toArray, List.length_cons, List.length_nil, Nat.reduceAdd, Nat.reduceSub, Array.replicate_succ, Array.replicate_zero, List.push_toArray, List.append_toArray, List.nil_append, List.cons_append]
  gi_wp2_with (refine skip_wide _ _ rfl rfl ?_)
  refine ⟨trivial, fun h => (by cases h), ?_⟩
  refine hS.mono ?_
  rintro e W1 ⟨rfl, hq⟩
  have hu : Up W W1 := Drw.up hq
  have hY1 := hY (n - 1) pre x1 W1 (hJ _ _ _ hj hu) (by simp at hN; omega)
  obtain ⟨fn, tmps, assign, body, hy, hR⟩ := hY1
  gi_wp2_with (refine skip_wide _ _ rfl rfl ?_)
  refine ⟨fun h => (by cases h), ?_⟩
  refine hR.mono ?_
  clear hR hy
  rintro e W2 (⟨rfl, hj2, hb2⟩ | ⟨rfl, hx⟩)
  · obtain ⟨fn, tmps, assign, body, hy, hR⟩ := hY (n - 1) _ x2 W2 hj2 (by simp at hN ⊢; omega)
    gi_wp2_with (refine skip_wide _ _ rfl rfl ?_)
    refine ⟨fun h => (by cases h), ?_⟩
    refine hR.mono ?_
    clear hR hy
    rintro e W3 (⟨rfl, hj3, hb3⟩ | ⟨rfl, hx⟩)
    · obtain ⟨fn, tmps, assign, body, hy, hR⟩ := hY (n - 1) _ x3 W3 hj3 (by simp at hN ⊢; omega)
      gi_wp2_with (refine skip_wide _ _ rfl rfl ?_)
      refine ⟨fun h => (by cases h), ?_⟩
      refine hR.mono ?_
      clear hR hy
      rintro e W4 (⟨rfl, hj4, hb4⟩ | ⟨rfl, hx⟩)
      · gi_wp2_with (refine skip_wide _ _ rfl rfl ?_)
        go_ret
        exact .inl ⟨rfl, by simpa using hj4, (((hu.mono (by subst hn; exact hb.size)).trans hb2).trans hb3).trans hb4⟩
      · gi_wp2_with (refine skip_wide _ _ rfl rfl ?_)
        go_ret
        exact .inr ⟨rfl, [x1, x2, x3], by simp, List.prefix_refl _, by simpa using hx⟩
    · gi_wp2_with (refine skip_wide _ _ rfl rfl ?_)
      go_ret
      exact .inr ⟨rfl, [x1, x2], by simp, ⟨[x3], rfl⟩, by simpa using hx⟩
  · gi_wp2_with (refine skip_wide _ _ rfl rfl ?_)
    go_ret
    exact .inr ⟨rfl, [x1], by simp, ⟨[x2, x3], rfl⟩, hx⟩

set_option maxRecDepth 100000 in
set_option maxHeartbeats 4000000 in
theorem each_row {l n₀ N : Nat} {w0 : World} (h0 : HRows w0) (hn : n₀ = w0.heap.size) {J Jx : List Nat → World → Prop} (hJ : ∀ s W W', J s W → Up W W' → J s W')
    (c : Nat) (hs : isS c = false) (hr : decOk c = true) (L : List Nat) (ha : Eaches l n₀ N w0 J Jx (decA c) L) (hB : decB c ≠ 0 → Eaches l n₀ N w0 J Jx (decB c) [decB c]) :
    Eaches l n₀ N w0 J Jx c (L ++ if decB c = 0 then [] else [decB c]) := by
  intro n pre W hb hj hN
  have hS := (callsIn_wide (n := n - 1)).2 (split_prog c W (below_rows h0 hn hb))
  have hD := fun W' => (callsIn_wide (n := n - 1)).2 (decomp_prog c W')
  rw [hs] at hS
  rw [hr] at hD
  generalize decA c = a at *
  generalize decB c = b at *
  have hM0 : b = 0 → (if b = 0 then [] else [b]) = [] := fun h => if_pos h
  have hM1 : b ≠ 0 → (if b = 0 then [] else [b]) = [b] := fun h => if_neg h
  generalize (if b = 0 then [] else [b]) = M at *
  refine callsIn_of_wp Tryd.func24 rfl trivial ?_ rfl
  simp only [Tryd.ntmps24, List.size_toArray, List.length_cons, List.length_nil, Nat.reduceAdd, Nat.reduceSub, Array.replicate_succ, Array.replicate_zero, List.push_toArray, List.append_toArray, List.nil_append, List.cons_append]
  gi_wp2_with (refine skip_wide _ _ rfl rfl ?_)
  refine ⟨trivial, fun h => (by cases h), ?_⟩
  refine hS.mono ?_
  rintro e W1 ⟨rfl, hq⟩
  have hu1 : Up W W1 := Drw.up hq
  gi_wp2_with (refine skip_wide _ _ rfl rfl ?_)
  refine ⟨trivial, fun h => (by cases h), ?_⟩
  refine (hD _).mono ?_
  rintro e W2 ⟨rfl, hu2⟩
  have hu := hu1.trans hu2
  have hW2 : Below n₀ W W2 := hu.mono (by rw [hn]; exact hb.size)
  have hA := ha (n - 1) pre W2 (up_below hn hb hu) (hJ _ _ _ hj hu) (by simp at hN; omega)
  gi_wp2_with (refine skip_wide _ _ rfl rfl ?_)
  refine ⟨trivial, fun h => (by cases h), ?_⟩
  refine hA.mono ?_
  clear hA
  rintro e W3 (⟨rfl, hj3, hb3⟩ | ⟨rfl, q, hq0, hq, hx⟩)
  · by_cases hz : b = 0
    · obtain rfl := hM0 hz
      subst hz
      gi_wp2_with (refine skip_wide _ _ rfl rfl ?_)
      go_ret
      exact .inl ⟨rfl, by simpa using hj3, hW2.trans hb3⟩
    · have hB2 := hB hz (n - 1) (pre ++ L) W3 ((up_below hn hb hu).trans hb3) hj3 (by rw [hM1 hz] at hN; simp at hN ⊢; omega)
      obtain rfl := hM1 hz
      have hz1 : ((b : Int) == 0) = false := by rw [beq_eq_false_iff_ne]; omega
      gi_wp2_with (refine skip_wide _ _ rfl rfl ?_)
      refine ⟨trivial, fun h => (by cases h), ?_⟩
      refine hB2.mono ?_
      clear hB2
      rintro e W4 (⟨rfl, hj4, hb4⟩ | ⟨rfl, q, hq0, hq, hx⟩)
      · gi_wp2_with (refine skip_wide _ _ rfl rfl ?_)
        go_ret
        exact .inl ⟨rfl, by simpa using hj4, (hW2.trans hb3).trans hb4⟩
      · gi_wp2_with (refine skip_wide _ _ rfl rfl ?_)
        go_ret
        obtain ⟨r, hr'⟩ := hq
        exact .inr ⟨rfl, L ++ q, by simp [hq0], by rw [← hr', ← List.append_assoc]; exact List.prefix_append _ _, by simpa using hx⟩
  · gi_wp2_with (refine skip_wide _ _ rfl rfl ?_)
    go_ret
    exact .inr ⟨rfl, q, hq0, hq.trans (List.prefix_append _ _), hx⟩

/-- each yields the full decomposition. -/
theorem each_full {l n₀ N : Nat} {w0 : World} (h0 : HRows w0) (hn : n₀ = w0.heap.size) {J Jx : List Nat → World → Prop} (hJ : ∀ s W W', J s W → Up W W' → J s W')
    (hY : Yields l n₀ N J Jx) (c : Nat) : Eaches l n₀ N w0 J Jx c (full c) := by
  refine full_ind (P := fun c => Eaches l n₀ N w0 J Jx c (full c)) ?_ ?_ ?_ c
  · intro c h
    rw [full_S h]
    by_cases ht : splT c = 0
    · rw [if_pos ht]; exact each_two h0 hn hJ hY c h ht
    · rw [if_neg ht]; exact each_three h0 hn hJ hY c h ht
  · intro c hs h
    rw [full_no hs h]
    exact each_plain h0 hn hJ hY c hs (by rw [Bool.eq_false_iff]; exact fun e => (decOk_iff c).1 e h)
  · intro c h hs ih
    rw [full_row h]
    refine each_row h0 hn hJ c hs ((decOk_iff c).2 h) _ ih fun _ => ?_
    exact each_plain h0 hn hJ hY _ (not_S (row_p h).b) (by rw [Bool.eq_false_iff]; exact fun e => (decOk_iff _).1 e (deep h).1)

end Go.Proofs.YthdhlcafomhdbaaDoor
