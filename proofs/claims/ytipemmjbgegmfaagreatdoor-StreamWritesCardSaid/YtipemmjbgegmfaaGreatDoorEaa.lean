/- Eaa: one text of Eac Eap Eaq Ear Eas. -/
import Derived.Test.YtipemmjbgegmfaaGreatDoorUpo
import Derived.Test.YtipemmjbgegmfaaGreatDoorFur
import Derived.Test.YtipemmjbgegmfaaGreatDoorBas
import Derived.Test.YtipemmjbgegmfaaGreatDoorHga
import Derived.RangeFuncFrom
import Derived.RangeFuncBound
import Derived.RangeFuncLeaves
import Derived.Shelf.Abstract
import Derived.WalkKit
import Derived.OwnWalkIn
import Derived.TacticsInMore
import Derived.Test.YtipemmjbgegmfaaGreatDoorDca
import Derived.LoopIn

/- The program's own iteration over what a character is decomposed to: yield is called on each part, in order, till one says no. -/
namespace Go.Proofs.YtipemmjbgegmfaaGreatDoor
open Go.RowKit Go.Shelf

attribute [local go_sem] Oper.semAt_some

theorem room_any (k : Nat) : Fence.wide.room k := fun d h => by cases h
theorem round_any {m m' : Nat} {P : Program} {l : Nat} {f : FuncId} {tmps : Array Value} {assign body : Code} {w : World} {R : Ending → World → Prop}
    (h : RoundIn Fence.wide m P l f tmps assign body w R) : RoundIn Fence.wide m' P l f tmps assign body w R := ⟨h.1, fun c cs _ => h.2 c cs (room_any _)⟩
theorem yield_any {m : Nat} (m' : Nat) {P : Program} {l : Nat} {args : Array Value} {W : World} {R : Ending → World → Prop} (h : YieldAt Fence.wide m P l args W R) : YieldAt Fence.wide m' P l args W R := by
  obtain ⟨fn, tmps, assign, body, hy, hR⟩ := h
  exact ⟨fn, tmps, assign, body, hy, round_any hR⟩

/-- A guarded call that is passed over. -/
theorem skip_wide {n : Nat} {P : Program} {ops : Array Oper} {Q : Exit → Act → World → Prop} {a : Act} {w : World} {rest : List Oper} {o : Oper} (j : Nat) (b : Bool)
    (hg : o.guard = some (j, b)) (hy : (yielded ops a.tmps j == some b) = false) (h : wpListIn Fence.wide n P ops Q rest (a.put o.dst undef) w) : wpListIn Fence.wide n P ops Q (o :: rest) a w :=
  wpListIn_step fun K hK => by
    have hw : Region.wanted o (yielded ops a.tmps) = false := by unfold Region.wanted; rw [hg]; exact hy
    rw [if_neg (by rw [hw]; decide)]
    exact ⟨fun _ _ => trivial, hK _ _ h⟩

/-- What yield does, as long as fewer than N have come. -/
def Yields (l n₀ N : Nat) (J Jx : List Nat → World → Prop) : Prop :=
  ∀ m pre x W, J pre W → pre.length < N → YieldAt Fence.wide m Tryz.prog l #[.int .u32 ((x : Nat) : Int)] W fun e W' =>
    (e = .returned (.bool true) ∧ J (pre ++ [x]) W' ∧ Below n₀ W W') ∨ (e = .returned (.bool false) ∧ Jx (pre ++ [x]) W')

/-- What each does with the parts L of c. -/
def Eaches (l n₀ N : Nat) (w0 : World) (J Jx : List Nat → World → Prop) (c : Nat) (L : List Nat) : Prop :=
  ∀ (n : Nat) (pre : List Nat) (W : World), Below n₀ w0 W → J pre W → pre.length + L.length ≤ N →
    CallsIn Fence.wide n Tryz.prog 108 #[.int .u32 (c : Int), .func (.yield l) #[] #[]] W fun e W' =>
      (e = .returned (.bool true) ∧ J (pre ++ L) W' ∧ Below n₀ W W') ∨ (e = .returned (.bool false) ∧ ∃ q, q ≠ [] ∧ q <+: L ∧ Jx (pre ++ q) W')

theorem below_rows {n₀ : Nat} {w0 W : World} (h0 : HRows w0) (hn : n₀ = w0.heap.size) (h : Below n₀ w0 W) : HRows W := h0.up (by subst hn; exact h)
theorem up_below {n₀ : Nat} {w0 W W' : World} (hn : n₀ = w0.heap.size) (h : Below n₀ w0 W) (u : Up W W') : Below n₀ w0 W' := h.trans (u.mono (by subst hn; exact h.size))

set_option maxRecDepth 100000 in
set_option maxHeartbeats 2000000 in
theorem each_plain {l n₀ N : Nat} {w0 : World} (h0 : HRows w0) (hn : n₀ = w0.heap.size) {J Jx : List Nat → World → Prop} (hJ : ∀ s W W', J s W → Up W W' → J s W')
    (hY : Yields l n₀ N J Jx) (c : Nat) (hs : isS c = false) (hr : decOk c = false) : Eaches l n₀ N w0 J Jx c [c] := by
  intro n pre W hb hj hN
  have hS := (callsIn_wide (n := n - 1)).2 (split_prog c W (below_rows h0 hn hb))
  have hD := fun W' => (callsIn_wide (n := n - 1)).2 (decomp_prog c W')
  rw [hs] at hS
  rw [hr] at hD
  refine callsIn_of_wp Tryz.func108 rfl trivial ?_ rfl
  simp only [Tryz.ntmps108, List.size_toArray, List.length_cons, List.length_nil, Nat.reduceAdd, Nat.reduceSub, Array.replicate_succ, Array.replicate_zero, List.push_toArray, List.append_toArray, List.nil_append, List.cons_append]
  gi_wp2_with fail
  refine ⟨trivial, fun h => (by cases h), ?_⟩
  refine hS.mono ?_
  rintro e W1 ⟨rfl, hq⟩
  have hu1 : Up W W1 := Drw.up hq
  gi_wp2_with fail
  refine ⟨trivial, fun h => (by cases h), ?_⟩
  refine (hD _).mono ?_
  rintro e W2 ⟨rfl, hu2⟩
  have hu := hu1.trans hu2
  have hY1 := hY (n - 1) pre c W2 (hJ _ _ _ hj hu) (by simp at hN; omega)
  obtain ⟨fn, tmps, assign, body, hy, hR⟩ := hY1
  gi_wp2_with fail
  refine ⟨fun h => (by cases h), ?_⟩
  refine hR.mono ?_
  rintro e W3 (⟨rfl, hj3, hb3⟩ | ⟨rfl, hx⟩)
  · gi_wp2_with fail
    go_ret
    exact .inl ⟨rfl, hj3, ((hu.mono (by subst hn; exact hb.size)).trans hb3)⟩
  · gi_wp2_with fail
    go_ret
    exact .inr ⟨rfl, [c], by simp, List.prefix_refl _, hx⟩

set_option maxRecDepth 100000 in
set_option maxHeartbeats 2000000 in
theorem each_two {l n₀ N : Nat} {w0 : World} (h0 : HRows w0) (hn : n₀ = w0.heap.size) {J Jx : List Nat → World → Prop} (hJ : ∀ s W W', J s W → Up W W' → J s W')
    (hY : Yields l n₀ N J Jx) (c : Nat) (hs : isS c = true) (ht : splT c = 0) : Eaches l n₀ N w0 J Jx c [splL c, splV c] := by
  intro n pre W hb hj hN
  have hS := (callsIn_wide (n := n - 1)).2 (split_prog c W (below_rows h0 hn hb))
  rw [hs, ht] at hS
  generalize splL c = x1 at *
  generalize splV c = x2 at *
  refine callsIn_of_wp Tryz.func108 rfl trivial ?_ rfl
  simp only [Tryz.ntmps108, List.size_toArray, List.length_cons, List.length_nil, Nat.reduceAdd, Nat.reduceSub, Array.replicate_succ, Array.replicate_zero, List.push_toArray, List.append_toArray, List.nil_append, List.cons_append]
  gi_wp2_with (refine skip_wide _ _ rfl rfl ?_)
  refine ⟨trivial, fun h => (by cases h), ?_⟩
  refine hS.mono ?_
  rintro e W1 ⟨rfl, hq⟩
  have hu : Up W W1 := Drw.up hq
  have hY1 := hY (n - 1) pre x1 W1 (hJ _ _ _ hj hu) (by simp at hN; omega)
  obtain ⟨fn, tmps, assign, body, hy, hR⟩ := hY1
  gi_wp2_with (refine skip_wide _ _ rfl rfl ?_)
  refine ⟨fun h => (by cases h), ?_⟩
  refine hR.mono ?_
  clear hR hy
  rintro e W2 (⟨rfl, hj2, hb2⟩ | ⟨rfl, hx⟩)
  · obtain ⟨fn, tmps, assign, body, hy, hR⟩ := hY (n - 1) _ x2 W2 hj2 (by simp at hN ⊢; omega)
    gi_wp2_with (refine skip_wide _ _ rfl rfl ?_)
    refine ⟨fun h => (by cases h), ?_⟩
    refine hR.mono ?_
    clear hR hy
    rintro e W3 (⟨rfl, hj3, hb3⟩ | ⟨rfl, hx⟩)
    · gi_wp2_with (refine skip_wide _ _ rfl rfl ?_)
      go_ret
      exact .inl ⟨rfl, by simpa using hj3, ((hu.mono (by subst hn; exact hb.size)).trans hb2).trans hb3⟩
    · gi_wp2_with (refine skip_wide _ _ rfl rfl ?_)
      go_ret
      exact .inr ⟨rfl, [x1, x2], by simp, List.prefix_refl _, by simpa using hx⟩
  · gi_wp2_with (refine skip_wide _ _ rfl rfl ?_)
    go_ret
    exact .inr ⟨rfl, [x1], by simp, ⟨[x2], rfl⟩, hx⟩

set_option maxRecDepth 100000 in
set_option maxHeartbeats 4000000 in
theorem each_three {l n₀ N : Nat} {w0 : World} (h0 : HRows w0) (hn : n₀ = w0.heap.size) {J Jx : List Nat → World → Prop} (hJ : ∀ s W W', J s W → Up W W' → J s W')
    (hY : Yields l n₀ N J Jx) (c : Nat) (hs : isS c = true) (ht : splT c ≠ 0) : Eaches l n₀ N w0 J Jx c [splL c, splV c, splT c] := by
  intro n pre W hb hj hN
  have hS := (callsIn_wide (n := n - 1)).2 (split_prog c W (below_rows h0 hn hb))
  rw [hs] at hS
  generalize splL c = x1 at *
  generalize splV c = x2 at *
  generalize splT c = x3 at *
  have ht1 : ((x3 : Int) == 0) = false := by rw [beq_eq_false_iff_ne]; omega
  refine callsIn_of_wp Tryz.func108 rfl trivial ?_ rfl
  simp only [Tryz.ntmps108, List.size_toArray, List.length_cons, List.length_nil, Nat.reduceAdd, Nat.reduceSub, Array.replicate_succ, Array.replicate_zero, List.push_toArray, List.append_toArray, List.nil_append, List.cons_append]
  gi_wp2_with (refine skip_wide _ _ rfl rfl ?_)
  refine ⟨trivial, fun h => (by cases h), ?_⟩
  refine hS.mono ?_
  rintro e W1 ⟨rfl, hq⟩
  have hu : Up W W1 := Drw.up hq
  have hY1 := hY (n - 1) pre x1 W1 (hJ _ _ _ hj hu) (by simp at hN; omega)
  obtain ⟨fn, tmps, assign, body, hy, hR⟩ := hY1
  gi_wp2_with (refine skip_wide _ _ rfl rfl ?_)
  refine ⟨fun h => (by cases h), ?_⟩
  refine hR.mono ?_
  clear hR hy
  rintro e W2 (⟨rfl, hj2, hb2⟩ | ⟨rfl, hx⟩)
  · obtain ⟨fn, tmps, assign, body, hy, hR⟩ := hY (n - 1) _ x2 W2 hj2 (by simp at hN ⊢; omega)
    gi_wp2_with (refine skip_wide _ _ rfl rfl ?_)
    refine ⟨fun h => (by cases h), ?_⟩
    refine hR.mono ?_
    clear hR hy
    rintro e W3 (⟨rfl, hj3, hb3⟩ | ⟨rfl, hx⟩)
    · obtain ⟨fn, tmps, assign, body, hy, hR⟩ := hY (n - 1) _ x3 W3 hj3 (by simp at hN ⊢; omega)
      gi_wp2_with (refine skip_wide _ _ rfl rfl ?_)
      refine ⟨fun h => (by cases h), ?_⟩
      refine hR.mono ?_
      clear hR hy
      rintro e W4 (⟨rfl, hj4, hb4⟩ | ⟨rfl, hx⟩)
      · gi_wp2_with (refine skip_wide _ _ rfl rfl ?_)
        go_ret
        exact .inl ⟨rfl, by simpa using hj4, (((hu.mono (by subst hn; exact hb.size)).trans hb2).trans hb3).trans hb4⟩
      · gi_wp2_with (refine skip_wide _ _ rfl rfl ?_)
        go_ret
        exact .inr ⟨rfl, [x1, x2, x3], by simp, List.prefix_refl _, by simpa using hx⟩
    · gi_wp2_with (refine skip_wide _ _ rfl rfl ?_)
      go_ret
      exact .inr ⟨rfl, [x1, x2], by simp, ⟨[x3], rfl⟩, by simpa using hx⟩
  · gi_wp2_with (refine skip_wide _ _ rfl rfl ?_)
    go_ret
    exact .inr ⟨rfl, [x1], by simp, ⟨[x2, x3], rfl⟩, hx⟩

set_option maxRecDepth 100000 in
set_option maxHeartbeats 4000000 in
theorem each_row {l n₀ N : Nat} {w0 : World} (h0 : HRows w0) (hn : n₀ = w0.heap.size) {J Jx : List Nat → World → Prop} (hJ : ∀ s W W', J s W → Up W W' → J s W')
    (c : Nat) (hs : isS c = false) (hr : decOk c = true) (L : List Nat) (ha : Eaches l n₀ N w0 J Jx (decA c) L) (hB : decB c ≠ 0 → Eaches l n₀ N w0 J Jx (decB c) [decB c]) :
    Eaches l n₀ N w0 J Jx c (L ++ if decB c = 0 then [] else [decB c]) := by
  intro n pre W hb hj hN
  have hS := (callsIn_wide (n := n - 1)).2 (split_prog c W (below_rows h0 hn hb))
  have hD := fun W' => (callsIn_wide (n := n - 1)).2 (decomp_prog c W')
  rw [hs] at hS
  rw [hr] at hD
  generalize decA c = a at *
  generalize decB c = b at *
  have hM0 : b = 0 → (if b = 0 then [] else [b]) = [] := fun h => if_pos h
  have hM1 : b ≠ 0 → (if b = 0 then [] else [b]) = [b] := fun h => if_neg h
  generalize (if b = 0 then [] else [b]) = M at *
  refine callsIn_of_wp Tryz.func108 rfl trivial ?_ rfl
  simp only [Tryz.ntmps108, List.size_toArray, List.length_cons, List.length_nil, Nat.reduceAdd, Nat.reduceSub, Array.replicate_succ, Array.replicate_zero, List.push_toArray, List.append_toArray, List.nil_append, List.cons_append]
  gi_wp2_with (refine skip_wide _ _ rfl rfl ?_)
  refine ⟨trivial, fun h => (by cases h), ?_⟩
  refine hS.mono ?_
  rintro e W1 ⟨rfl, hq⟩
  have hu1 : Up W W1 := Drw.up hq
  gi_wp2_with (refine skip_wide _ _ rfl rfl ?_)
  refine ⟨trivial, fun h => (by cases h), ?_⟩
  refine (hD _).mono ?_
  rintro e W2 ⟨rfl, hu2⟩
  have hu := hu1.trans hu2
  have hW2 : Below n₀ W W2 := hu.mono (by rw [hn]; exact hb.size)
  have hA := ha (n - 1) pre W2 (up_below hn hb hu) (hJ _ _ _ hj hu) (by simp at hN; omega)
  gi_wp2_with (refine skip_wide _ _ rfl rfl ?_)
  refine ⟨trivial, fun h => (by cases h), ?_⟩
  refine hA.mono ?_
  clear hA
  rintro e W3 (⟨rfl, hj3, hb3⟩ | ⟨rfl, q, hq0, hq, hx⟩)
  · by_cases hz : b = 0
    · obtain rfl := hM0 hz
      subst hz
      gi_wp2_with (refine skip_wide _ _ rfl rfl ?_)
      go_ret
      exact .inl ⟨rfl, by simpa using hj3, hW2.trans hb3⟩
    · have hB2 := hB hz (n - 1) (pre ++ L) W3 ((up_below hn hb hu).trans hb3) hj3 (by rw [hM1 hz] at hN; simp at hN ⊢; omega)
      obtain rfl := hM1 hz
      have hz1 : ((b : Int) == 0) = false := by rw [beq_eq_false_iff_ne]; omega
      gi_wp2_with (refine skip_wide _ _ rfl rfl ?_)
      refine ⟨trivial, fun h => (by cases h), ?_⟩
      refine hB2.mono ?_
      clear hB2
      rintro e W4 (⟨rfl, hj4, hb4⟩ | ⟨rfl, q, hq0, hq, hx⟩)
      · gi_wp2_with (refine skip_wide _ _ rfl rfl ?_)
        go_ret
        exact .inl ⟨rfl, by simpa using hj4, (hW2.trans hb3).trans hb4⟩
      · gi_wp2_with (refine skip_wide _ _ rfl rfl ?_)
        go_ret
        obtain ⟨r, hr'⟩ := hq
        exact .inr ⟨rfl, L ++ q, by simp [hq0], by rw [← hr', ← List.append_assoc]; exact List.prefix_append _ _, by simpa using hx⟩
  · gi_wp2_with (refine skip_wide _ _ rfl rfl ?_)
    go_ret
    exact .inr ⟨rfl, q, hq0, hq.trans (List.prefix_append _ _), hx⟩

/-- each yields the full decomposition. -/
theorem each_full {l n₀ N : Nat} {w0 : World} (h0 : HRows w0) (hn : n₀ = w0.heap.size) {J Jx : List Nat → World → Prop} (hJ : ∀ s W W', J s W → Up W W' → J s W')
    (hY : Yields l n₀ N J Jx) (c : Nat) : Eaches l n₀ N w0 J Jx c (full c) := by
  refine full_ind (P := fun c => Eaches l n₀ N w0 J Jx c (full c)) ?_ ?_ ?_ c
  · intro c h
    rw [full_S h]
    by_cases ht : splT c = 0
    · rw [if_pos ht]; exact each_two h0 hn hJ hY c h ht
    · rw [if_neg ht]; exact each_three h0 hn hJ hY c h ht
  · intro c hs h
    rw [full_no hs h]
    exact each_plain h0 hn hJ hY c hs (by rw [Bool.eq_false_iff]; exact fun e => (decOk_iff c).1 e h)
  · intro c h hs ih
    rw [full_row h]
    refine each_row h0 hn hJ c hs ((decOk_iff c).2 h) _ ih fun _ => ?_
    exact each_plain h0 hn hJ hY _ (not_S (row_p h).b) (by rw [Bool.eq_false_iff]; exact fun e => (decOk_iff _).1 e (deep h).1)

end Go.Proofs.YtipemmjbgegmfaaGreatDoor

/- The program's iterators handed to AppendSeq and Collect: Full. -/
namespace Go.Proofs.YtipemmjbgegmfaaGreatDoor
open Go.RowKit Go.Shelf

attribute [local go_sem] Oper.semAt_some

abbrev encU (x : Nat) : Array Value := #[.int .u32 (x : Int)]

theorem parts_prog (c : Nat) (w : World) : Calls Tryz.prog 88 #[.int .u32 (c : Int)] w fun e w' =>
    e = .returned (.func (.func 107) #[] #[.pointer (some ⟨w.heap.size, 0, none⟩)]) ∧ w' = w.alloc (.cells #[.int .u32 (c : Int)] 28) := by
  go_enter Tryz.func88, Tryz.ntmps88
  go_wp2_with fail
  go_ret
  exact ⟨rfl, rfl⟩

theorem abides_up {B : Nat} {J : List Nat → World → Prop} (h : AbidesFrom B J) : ∀ s W W', J s W → Up W W' → J s W' := fun s W W' hs u => h s W W' none hs u.gb (fun r e => by cases e)

/-- What parts tells gives the full decomposition. -/
theorem parts_stops (n n₀ : Nat) (w0 w : World) (h0 : HRows w0) (hn : n₀ = w0.heap.size) (hb0 : Below n₀ w0 w) (c b : Nat) (hb : b < w.heap.size) (hc : w.cell? ⟨b, 0, none⟩ = some (.int .u32 (c : Int))) :
    SeqStopsK Fence.wide n Tryz.prog 107 #[.pointer (some ⟨b, 0, none⟩)] encU (Below n₀) (fun ys => ys = full c) (fun q => q ≠ [] ∧ q <+: full c) (full c).length w := by
  intro l J Jx W hW hJ hJx hY hj
  have hE := each_full (l := l) (n₀ := n₀) (N := (full c).length) h0 hn (J := J) (Jx := Jx) (abides_up hJ) (fun m pre x W1 h1 h2 => yield_any m (hY pre x W1 h1 h2)) c (n - 1) [] W
    (hb0.trans (hW.mono (by have := hb0.size; omega))) hj (by simp)
  have hcW : W.cell? ⟨b, 0, none⟩ = some (.int .u32 (c : Int)) := (hW.cell (p := ⟨b, 0, none⟩) hb).trans hc
  generalize full c = L at *
  refine callsIn_of_wp Tryz.func107 rfl trivial ?_ rfl
  simp only [Tryz.ntmps107, List.size_toArray, List.length_cons, List.length_nil, Nat.reduceAdd, Nat.reduceSub, Array.replicate_succ, Array.replicate_zero, List.push_toArray, List.append_toArray, List.nil_append, List.cons_append]
  gi_wp2_with fail
  refine ⟨trivial, fun h => (by cases h), ?_⟩
  refine hE.mono ?_
  rintro e W1 (⟨rfl, hj1, _⟩ | ⟨rfl, q, hq0, hq, hx⟩)
  · gi_wp2_with fail
    go_end0
    exact ⟨⟨_, rfl⟩, .inl ⟨_, rfl, by simpa using hj1⟩⟩
  · gi_wp2_with fail
    go_end0
    exact ⟨⟨_, rfl⟩, .inr ⟨q, ⟨hq0, hq⟩, by simpa using hx⟩⟩

/-- A list that has come so far, in a block of the call's own, behind the box Bs. -/
structure Acc (w : World) (Bs : Nat) (l : List Nat) (W : World) : Prop where
  box : ∃ v, W.heap[Bs]? = some (.cells #[v] 60 (0, 0)) ∧ W.ownsRow w.heap.size 28 1 v l.length (us l)
  below : Below w.heap.size w W

theorem own_not_other {W W' : World} {row : Option Nat} {base : Nat} {e : TypeId} {v : Value} {k : Nat} {xs : List Value} (h : W.ownsRow base e 1 v k xs) (hg : W.grownBy W' row)
    (hrow : ∀ r, row = some r → ∃ o : Obj, W.heap[r]? = some o ∧ o.isCells = false) : W'.ownsRow base e 1 v k xs := by
  refine h.kept hg ?_
  rcases h.2 with ⟨rfl, _⟩ | ⟨g, cap, cur, rfl, _, hgb, _⟩
  · exact .inl rfl
  · refine .inr fun e' => ?_
    obtain ⟨o, ho, hw⟩ := hrow g (by simpa [Value.ownBlock] using e'.symm)
    rw [hgb] at ho; cases ho; cases hw

theorem Acc.abides {w : World} {Bs B : Nat} (hB : w.heap.size ≤ B) (f : List Nat → List Nat) : OwnFrom B (fun pre => Acc w Bs (f pre)) := fun s W W' row h hg hr => by
  have hr' : ∀ r, row = some r → ∃ o : Obj, W.heap[r]? = some o ∧ o.isCells = false := fun r e => (hr r e).2
  obtain ⟨v, hv, ho⟩ := h.box
  exact ⟨⟨v, (grownBy_keeps_cells hg hr' hv rfl).trans hv, own_not_other ho hg hr'⟩, h.below.grown hg h.below.size (fun k e => Nat.le_trans hB (hr k e).1)⟩
theorem Acc.turn {w : World} {Bs : Nat} {l : List Nat} {W : World} (h : Acc w Bs l W) {D : Nat} {o : Obj} (o' : Obj) (hD : w.heap.size ≤ D) (hk : W.heap[D]? = some o) (ho : o.isCells = false) : Acc w Bs l (W.putObj D o') :=
  (Acc.abides (B := w.heap.size) (Nat.le_refl _) (fun _ => l)) [] W _ (some D) h (grownBy_putObj' W D o') (fun r e => by cases e; exact ⟨hD, o, hk, ho⟩)

theorem cell_box {W : World} {B : Nat} {v : Value} {t : TypeId} (h : W.heap[B]? = some (.cells #[v] t (0, 0))) : W.cell? ⟨B, 0, none⟩ = some v ∧ W.frozen? ⟨B, 0, none⟩ = false := by
  constructor <;> simp [World.cell?, World.frozen?, h]
theorem heap_set_box {W : World} {B : Nat} {v : Value} {t : TypeId} (v' : Value) (h : W.heap[B]? = some (.cells #[v] t (0, 0))) : (W.setCell ⟨B, 0, none⟩ v').heap[B]? = some (.cells #[v'] t (0, 0)) := by
  obtain ⟨hlt, hk⟩ := Array.getElem?_eq_some_iff.1 h
  show (W.heap.modify B _)[B]? = _
  rw [Array.getElem?_eq_getElem (by rw [Array.size_modify]; exact hlt), Array.getElem_modify_self, hk]
  rfl
theorem grown_set0 (W : World) (b : Nat) (v : Value) : W.grownBy (W.setCell ⟨b, 0, none⟩ v) (some b) :=
  ⟨rfl, rfl, rfl, (KeepsWalks.setCell W _ v).size, fun k _ hk => Below.heap_setCell _ _ _ k (fun e => hk (by rw [e]))⟩
theorem own_ne_box {W : World} {base : Nat} {E T : TypeId} {v u : Value} {k : Nat} {xs : List Value} (h : W.ownsRow base E 1 v k xs) {j : Nat} (hj : W.heap[j]? = some (.cells #[u] T (0, 0))) (hne : T ≠ E) :
    v.ownBlock = none ∨ v.ownBlock ≠ some j := by
  rcases h.2 with ⟨rfl, _⟩ | ⟨g, cap, cur, rfl, _, hgb, _⟩
  · exact .inl rfl
  · refine .inr fun e' => ?_
    have : g = j := by simpa [Value.ownBlock] using e'
    subst this; rw [hgb] at hj; cases hj; exact hne rfl

/-- One number is appended, and the box holds it: behind 'append(all, x)' and its store. -/
theorem Acc.step {w W w3 : World} {Bs : Nat} {l : List Nat} {v v' : Value} {x : Nat} (hBs : w.heap.size ≤ Bs) (hb : Below w.heap.size w W) (hv : W.heap[Bs]? = some (.cells #[v] 60 (0, 0)))
    (ho : W.ownsRow w.heap.size 28 1 v l.length (us l))
    (ho' : w3.ownsRow w.heap.size 28 1 v' (l.length + 1) (us l ++ [.int .u32 (x : Int)])) (hg : (W.alloc (.cells #[.int .u32 (x : Int)] 28)).grownBy w3 v.ownBlock) :
    w3.heap[Bs]? = some (.cells #[v] 60 (0, 0)) ∧ Acc w Bs (l ++ [x]) (w3.setCell ⟨Bs, 0, none⟩ v') ∧ KeepsOthers W (w3.setCell ⟨Bs, 0, none⟩ v') ∧ Below w.heap.size W (w3.setCell ⟨Bs, 0, none⟩ v') := by
  have hBlt : Bs < W.heap.size := (Array.getElem?_eq_some_iff.1 hv).1
  have hne : some Bs ≠ v.ownBlock := by
    rcases own_ne_box ho hv (by decide) with e | e
    · rw [e]; simp
    · exact fun e' => e e'.symm
  have hv3 : w3.heap[Bs]? = some (.cells #[v] 60 (0, 0)) := (hg.block Bs (by simp; omega) hne).trans ((Below.heap_alloc _ _ Bs hBlt).trans hv)
  have hown4 : (w3.setCell ⟨Bs, 0, none⟩ v').ownsRow w.heap.size 28 1 v' (l.length + 1) (us l ++ [.int .u32 (x : Int)]) := ho'.kept (grown_set0 _ _ _) (own_ne_box ho' hv3 (by decide))
  have hlow : ∀ k, v.ownBlock = some k → w.heap.size ≤ k := fun k e => (ho.lt k e).1
  have hW3 : Below w.heap.size W w3 := ((Below.refl w.heap.size W).alloc hb.size _).grown hg (by have := hb.size; simp; omega) hlow
  have hW4 : Below w.heap.size W (w3.setCell ⟨Bs, 0, none⟩ v') := hW3.setCell (p := ⟨Bs, 0, none⟩) hBs _
  refine ⟨hv3, ⟨⟨v', heap_set_box _ hv3, ?_⟩, hb.trans hW4⟩, ?_, hW4⟩
  · simpa [us] using hown4
  · refine ((KeepsOthers.alloc W _).trans (KeepsOthers.of_grownBy hg ?_)).trans (KeepsOthers.setCell _ _ _)
    intro j o hj ho2
    rcases (World.ownsRow.alloc ho (.cells #[.int .u32 (x : Int)] 28)).2 with ⟨rfl, _⟩ | ⟨g, cap, cur, rfl, _, hgb, _⟩
    · cases hj
    · have : g = j := by simpa [Value.ownBlock] using hj
      subst this; rw [hgb] at ho2; cases ho2; rfl

end Go.Proofs.YtipemmjbgegmfaaGreatDoor

/- The program's Full: Collect, AppendSeq over an iterator. -/
namespace Go.Proofs.YtipemmjbgegmfaaGreatDoor
open Go.RowKit Go.Shelf

attribute [local go_sem] Oper.semAt_some

end Go.Proofs.YtipemmjbgegmfaaGreatDoor

/- The program's Full, List. -/
namespace Go.Proofs.YtipemmjbgegmfaaGreatDoor
open Go.RowKit Go.Shelf

attribute [local go_sem] Oper.semAt_some

/-- The marks that the ranges of a function have left. -/
def marks (Ds : List Nat) : List Deferred := Ds.map fun D => { target := .collected D, args := #[] }
theorem leaves_marks {fn : Func} {tmps : Array Value} {R : Ending → World → Prop} (B : Nat) (T : World → Prop) (hT : ∀ W D, B ≤ D → T W → W.heap[D]? = some (.deferred (some [])) → T (W.putObj D (.deferred none)))
    (hR : ∀ W, T W → LeavesIn Fence.wide 0 Tryz.prog fn tmps R [] .returning W) : ∀ (n : Nat) (Ds : List Nat) (W : World), Ds.Nodup → (∀ D ∈ Ds, B ≤ D ∧ W.heap[D]? = some (.deferred (some []))) → T W →
    LeavesInM Fence.wide n Tryz.prog fn tmps R (marks Ds) .returning W
  | n, [], W, _, _, h => hR W h
  | n, D :: Ds, W, hn, hk, h => by
    have hD := hk D (by simp)
    refine ⟨by simp, .inl ⟨D, _, rfl, run_takeDeferred hD.2, ?_⟩⟩
    have hn2 := List.nodup_cons.1 hn
    refine leaves_marks B T hT hR n Ds _ hn2.2 (fun E hE => ?_) (hT W D hD.1 h hD.2)
    exact ⟨(hk E (by simp [hE])).1, (World.putObj_heap_other (k := E) (r := D) (fun e => hn2.1 (by rw [← e]; exact hE))).trans (hk E (by simp [hE])).2⟩

/-- Between two rounds of List's outer loop. -/
structure ListAt (w : World) (A : Option Addr) (n d : Nat) (l : List Nat) (k : Nat) (Ds : List Nat) (W : World) : Prop where
  le : k ≤ n
  acc : Acc w w.heap.size ((l.take k).flatMap full) W
  nodup : Ds.Nodup
  marks : ∀ D ∈ Ds, w.heap.size ≤ D ∧ W.heap[D]? = some (.deferred (some []))

def slot9 (a : Act) : Nat := match a.tmps.getD 9 undef with
  | .int _ z => z.toNat
  | _ => 0

def ListInv (w : World) (A : Option Addr) (n d : Nat) (l : List Nat) (a : Act) (W : World) : Prop :=
  ∃ (k : Nat) (Ds : List Nat) (u5 u6 u10 u11 u12 u13 u14 u15 u16 u17 u18 u19 u20 : Value), ListAt w A n d l k Ds W ∧
    a = { tmps := #[.slice A n d, undef, .slice none 0 0, .pointer (some ⟨w.heap.size, 0, none⟩), undef, u5, u6, .slice A n d, .int .i64 (n : Int), .int .i64 (k : Int), u10, u11, u12, u13, u14, u15, u16, u17, u18, u19, u20, undef], defers := Go.Proofs.YtipemmjbgegmfaaGreatDoor.marks Ds }

set_option maxRecDepth 100000 in
set_option maxHeartbeats 2000000 in
theorem list_prog (A : Option Addr) (n d : Nat) (l : List Nat) (w : World) (h0 : HRows w) (h : Rd w A d (us l)) (hn : n = l.length) (hmax : n ≤ 100000) : Calls Tryz.prog 69 #[.slice A n d] w (Gives (l.flatMap full) w) := by
  obtain ⟨i0, hi, hz0, hz1, hz2⟩ := info_parts infoU
  refine (callsIn_wide (n := 5)).1 ?_
  refine callsIn_of_wp_marks Tryz.func69 rfl trivial ?_ rfl
  simp only [Tryz.ntmps69, List.size_toArray, List.length_cons, List.length_nil, Nat.reduceAdd, Nat.reduceSub, Array.replicate_succ, Array.replicate_zero, List.push_toArray, List.append_toArray, List.nil_append, List.cons_append]
  have hf := h.fit
  rw [us_len, ← hn] at hf
  have Hn := Lib.hid hn
  have H := Lib.hid h
  clear h hn
  gi_wp2_with (refine wpIn_loop (ListInv w A n d l) (fun a _ => n - slot9 a) ?start ?round)
  case start =>
    exact ⟨0, [], _, _, _, _, _, _, _, _, _, _, _, _, _, ⟨by omega, ⟨⟨_, World.alloc_heap_new w _, ⟨rfl, .inl ⟨rfl, rfl⟩⟩⟩, (Below.refl _ w).alloc (Nat.le_refl _) _⟩, List.nodup_nil, fun D hD => absurd hD (by simp)⟩, rfl⟩
  case round =>
    rintro a wr ⟨k, Ds, u5, u6, u10, u11, u12, u13, u14, u15, u16, u17, u18, u19, u20, hAt, rfl⟩
    have hk := hAt.le
    by_cases hlt : k < n
    · have hkl : k < l.length := by rw [← Hn.out]; exact hlt
      obtain ⟨a, rfl, _⟩ := H.out.ad (by omega)
      have hcell : wr.cell? (a.add k) = some (.int .u32 (l[k] : Int)) := (H.out.up hAt.acc.below).cell a rfl k _ (us_get l k hkl)
      have HS := Lib.hid (flat_take full hkl)
      have hP := (callsIn_wide (n := 4)).2 (parts_prog l[k] wr)
      generalize l[k] = x at *
      have hgs : 4 * k + 4 ≤ 500000 := by omega
      have hgl : ((l.take k).flatMap full).length ≤ 4 * k := by
        have := flat_full_len (l.take k)
        rw [List.length_take] at this
        omega
      have hlow := hAt.acc.below
      have hdef := hAt.marks
      have hnd := hAt.nodup
      have hS := parts_stops 4 w.heap.size w (wr.alloc (.cells #[.int .u32 (x : Int)] 28)) h0 rfl (hlow.alloc hlow.size _) x wr.heap.size (by simp) (cell_box (World.alloc_heap_new wr _)).1
      have hfx := full_len x
      have hacc := hAt.acc
      generalize (l.take k).flatMap full = G at *
      generalize full x = F at *
      clear hAt
      gi_wp2_with fail
      refine ⟨trivial, hP.mono ?_⟩
      clear hP
      rintro e w1 ⟨rfl, rfl⟩
      gi_wp2_with fail
      have hK1 : ∀ D ∈ Ds, w.heap.size ≤ D ∧ D < wr.heap.size := fun D hD => ⟨(hdef D hD).1, (Array.getElem?_eq_some_iff.1 (hdef D hD).2).1⟩
      have hbox : ∃ v, (wr.alloc (.cells #[.int .u32 (x : Int)] 28)).heap[w.heap.size]? = some (.cells #[v] 60 (0, 0)) ∧ (wr.alloc (.cells #[.int .u32 (x : Int)] 28)).ownsRow w.heap.size 28 1 v G.length (us G) := by
        obtain ⟨v, hv, ho⟩ := hacc.box
        exact ⟨v, (Below.heap_alloc _ _ _ (Array.getElem?_eq_some_iff.1 hv).1).trans hv, ho.alloc _⟩
      refine wpIn_rangeFunc_ownF rfl (by omega) (gf := 107) (lb := #[.pointer (some ⟨wr.heap.size, 0, none⟩)]) rfl trivial (enters_of Tryz.func107 (by kernel_rfl) rfl) hS (fun h k => h.trans k)
        (belowK_b (by have := hlow.size; simp; omega)) (Below.refl _ _) (fun _ => rfl)
        (fun pre W => Acc w w.heap.size (G ++ pre) W ∧ ∀ D ∈ Ds, W.heap[D]? = some (.deferred (some []))) (fun _ _ _ => False)
        ?own (fun _ _ _ _ _ hs _ _ => hs) ⟨⟨by simpa using hbox, hlow.alloc hlow.size _⟩, fun D hD => (Below.heap_alloc _ _ D (hK1 D hD).2).trans (hdef D hD).2⟩
        (fun y => { tmps := #[.slice (some a) n d, undef, .slice none 0 0, .pointer (some ⟨w.heap.size, 0, none⟩), undef, .int .u32 (x : Int), .int .u32 (y : Int), .slice (some a) n d, .int .i64 (n : Int), .int .i64 (k : Int), .bool true, .pointer (some (a.add k)), .int .u32 (x : Int), .int .u32 (x : Int), .func (.func 107) #[] #[.pointer (some ⟨wr.heap.size, 0, none⟩)], .int .u32 (y : Int), u16, u17, u18, u19, u20, undef], defers := [] }) ?assign ?body ?done ?stop
      case own =>
        intro s A B row hs hg hr
        refine ⟨Acc.abides (w := w) (Bs := w.heap.size) (B := (wr.alloc (.cells #[.int .u32 (x : Int)] 28)).heap.size) (by have := hlow.size; simp; omega) (fun pre => G ++ pre) s A B row hs.1 hg hr, fun D hD => ?_⟩
        have hDA := hs.2 D hD
        refine (hg.block D (Array.getElem?_eq_some_iff.1 hDA).1 fun e => ?_).trans hDA
        have := (hr D e.symm).1
        have := (hK1 D hD).2
        simp at *; omega
      case assign =>
        intro l x W K hK
        gi_wp2
        exact hK
      case body =>
        rintro l2 pre y W ⟨hA, hM⟩ hlt2
        obtain ⟨v, hv, ho⟩ := hA.box
        obtain ⟨hc, hf1⟩ := cell_box hv
        have hb := hA.below
        have hlen : (G ++ pre).length ≤ 500000 := by rw [List.length_append]; omega
        have hap : G ++ (pre ++ [y]) = G ++ pre ++ [y] := (List.append_assoc _ _ _).symm
        generalize G ++ pre = Z at *
        gi_wp2_with (gi_at_builtin; refine wpListIn_append_own _ rfl _ _ 60 rfl w.heap.size 28 i0 (.int .u32 0) 1 4 Tryz.underlying60 hi hz0 hz1 hz2 rfl (by decide) _ _ _ rfl (ho.alloc _) ⟨W.heap.size, 0, none⟩ 1 1 [.int .u32 (y : Int)] rfl rfl (cell_one_new _ _ _) (by simp [Value.oneCell']) (by unfold maxLen; omega) (by omega) (by have := hb.size; simp; omega) ?_; intro v' w3 hown' hg3 hnil3; obtain ⟨A', d', rfl, _⟩ := own_rd hown'; have hst := Acc.step (Nat.le_refl _) hb hv ho hown' hg3; have hc3 := (cell_box hst.1).1; have hf3 := (cell_box hst.1).2; clear hnil3)
        obtain ⟨_, hA, hKO, hKB⟩ := hst
        exact ⟨hKO, hKB, by rw [hap]; exact hA, fun D hD => hKO.same D _ (hM D hD) rfl⟩
      case done =>
        rintro D ys W hD rfl ⟨hA, hM⟩ hK
        gi_wp2_with fail
        have hDw : wr.heap.size < D := by simp at hD; omega
        refine ⟨⟨k + 1, D :: Ds, .int .u32 (x : Int), u6, .bool true, .pointer (some (a.add k)), .int .u32 (x : Int), .int .u32 (x : Int), .func (.func 107) #[] #[.pointer (some ⟨wr.heap.size, 0, none⟩)], u15, u16, u17, u18, u19, .int .i64 ((k : Int) + 1), ⟨by omega, by rw [HS.out]; exact hA, ?_, ?_⟩, ?_⟩, ?_⟩
        · exact List.nodup_cons.2 ⟨fun hm => by have := (hK1 D hm).2; omega, hnd⟩
        · intro E hE
          rcases List.mem_cons.1 hE with rfl | hE
          · exact ⟨by have := hlow.size; omega, hK⟩
          · exact ⟨(hK1 E hE).1, hM E hE⟩
        · rw [show ((k : Int) + 1) = ((k + 1 : Nat) : Int) from by omega]
          rfl
        · show n - ((k : Int) + 1).toNat < n - ((k : Int)).toNat
          omega
      case stop =>
        rintro D c pre W _ _ h _
        exact h.elim
    · have e : l.take k = l := List.take_of_length_le (by rw [← Hn.out]; omega)
      have hacc := hAt.acc
      have hmk := hAt.marks
      have hnd := hAt.nodup
      clear hAt
      rw [e] at hacc
      clear e
      generalize l.flatMap full = G at *
      obtain ⟨v, hv, ho⟩ := hacc.box
      obtain ⟨hc, hf1⟩ := cell_box hv
      obtain ⟨A', d', rfl, _⟩ := own_rd ho
      gi_wp2_with fail
      refine leaves_marks w.heap.size (fun W => Acc w w.heap.size G W ∧ W.ownsRow w.heap.size 28 1 (.slice A' G.length d') G.length (us G)) ?_ ?_ _ _ _ hnd hmk ⟨hacc, ho⟩
      · rintro W D hD ⟨hA, hO⟩ hK
        exact ⟨hA.turn _ hD hK rfl, own_not_other hO (grownBy_putObj' W D _) (fun r e => by cases e; exact ⟨_, hK, rfl⟩)⟩
      · rintro W ⟨hA, hO⟩
        have hG : Gives G w (.returned (.slice A' G.length d')) W := Gives.of rfl hO hA.below
        exact ⟨_, results_tmp (t := 2) rfl _ _ _, hG⟩
end Go.Proofs.YtipemmjbgegmfaaGreatDoor

/- The program's Whole; all three. -/
namespace Go.Proofs.YtipemmjbgegmfaaGreatDoor
open Go.RowKit Go.Shelf

attribute [local go_sem] Oper.semAt_some

/-- What Whole's rounds keep. -/
structure WholeAt (w : World) (c : Nat) (u : Bool → Prop) (W : World) : Prop where
  box : W.heap[w.heap.size]? = some (.cells #[.int .u32 (c : Int)] 28 (0, 0))
  res : ∃ b, u b ∧ W.heap[w.heap.size + 1]? = some (.cells #[.bool b] 4 (0, 0))
  below : Below w.heap.size w W
theorem WholeAt.kept {w : World} {c B : Nat} {u : Bool → Prop} (hB : w.heap.size ≤ B) {W W' : World} {row : Option Nat} (h : WholeAt w c u W) (hg : W.grownBy W' row)
    (hr : ∀ r, row = some r → B ≤ r ∧ ∃ o : Obj, W.heap[r]? = some o ∧ o.isCells = false) : WholeAt w c u W' := by
  have hr' : ∀ r, row = some r → ∃ o : Obj, W.heap[r]? = some o ∧ o.isCells = false := fun r e => (hr r e).2
  obtain ⟨b, hb, hv⟩ := h.res
  exact ⟨(grownBy_keeps_cells hg hr' h.box rfl).trans h.box, ⟨b, hb, (grownBy_keeps_cells hg hr' hv rfl).trans hv⟩, h.below.grown hg h.below.size (fun k e => Nat.le_trans hB (hr k e).1)⟩
theorem WholeAt.put {w : World} {c : Nat} {u : Bool → Prop} {W : World} (h : WholeAt w c u W) (b : Bool) : WholeAt w c (fun x => x = b) (W.setCell ⟨w.heap.size + 1, 0, none⟩ (.bool b)) := by
  obtain ⟨x, _, hv⟩ := h.res
  exact ⟨(Below.heap_setCell _ _ _ _ (by simp)).trans h.box, ⟨b, rfl, heap_set_box _ hv⟩, h.below.setCell (p := ⟨w.heap.size + 1, 0, none⟩) (by simp) _⟩

theorem full_all {c : Nat} : (∀ y ∈ full c, y = c) ↔ full c = [c] := by
  constructor
  · intro h
    cases hf : full c with
    | nil => exact absurd hf (full_some c)
    | cons x t =>
      have hx : x = c := h x (by rw [hf]; simp)
      have := full_whole c x (by rw [hf]; simp)
      rw [hx, hf, hx] at this
      rw [hx]; exact this
  · intro h y hy
    rw [h] at hy
    exact List.mem_singleton.1 hy

theorem results_one {fn : Func} {p : Tmp} {tmps : Array Value} {w : World} {g : Nat} {b : Bool} (h : fn.results = #[.cell p 4]) (hp : tmps.getD p undef = .pointer (some ⟨g, 0, none⟩)) (hg : w.heap[g]? = some (.cells #[.bool b] 4 (0, 0))) :
    (results fn tmps).run Tryz.prog w = .ok (.bool b) w := by
  have hc := (cell_box hg).1
  have hp' : tmps[p]?.getD undef = .pointer (some ⟨g, 0, none⟩) := by simpa using hp
  simp only [results, h, asAddr, loadVar]
  simp [go_sem, hc, hp']

end Go.Proofs.YtipemmjbgegmfaaGreatDoor
