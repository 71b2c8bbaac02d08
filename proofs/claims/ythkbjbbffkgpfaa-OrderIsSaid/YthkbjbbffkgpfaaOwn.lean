/- What a call made itself: kept over other calls; appended to; handed on. -/
import Derived.Test.YthkbjbbffkgpfaaApp
import Derived.Lib.Hide
import Derived.Outline
namespace Go.Proofs.Ythkbjbbffkgpfaa
open Go.RowKit

theorem Up.gb {w w' : World} (h : Up w w') : w.grownBy w' none := ⟨h.os, h.tape, h.output, h.size, fun k hk _ => h.block k hk⟩
theorem own_up {w w' : World} {base : Nat} {E : TypeId} {v : Value} {n : Nat} {xs : List Value} (h : w.ownsRow base E 1 v n xs) (hu : Up w w') : w'.ownsRow base E 1 v n xs :=
  h.kept hu.gb (by cases v.ownBlock <;> simp)
theorem Up.own {w wr w' : World} {row : Option Nat} (h : Up w wr) (hg : wr.grownBy w' row) (hr : ∀ k, row = some k → w.heap.size ≤ k) : Up w w' := Below.grown h hg h.size hr

/-- append of a literal's elements: the literal's own block is there already. -/
theorem El.push {T E : TypeId} {b : Nat} (h : El T E b) (w : World) (ty : TypeId) {base : Nat} {v : Value} {n : Nat} {xs : List Value} (hown : w.ownsRow base E 1 v n xs) (cs : Array Value) (m : Nat) (hm : m = cs.toList.length) (hm2 : m ≤ 1000) (hx : ∀ u ∈ cs.toList, u.oneCell' = true)
    (hb : (n + m) * b ≤ 140737488355328) (hb0 : 0 < b) (hbase : base ≤ w.heap.size) :
    ∃ v' w', (Builtin.append_ #[T, T] ty #[v, .slice (some ⟨w.heap.size, 0, none⟩) m m]).run Try.prog (w.alloc (.cells cs E)) = .ok v' w' ∧ w'.ownsRow base E 1 v' (n + m) (xs ++ cs.toList) ∧
      (w.alloc (.cells cs E)).grownBy w' v.ownBlock := by
  obtain ⟨v', w', h1, h2, h3, _⟩ := h.app (m := m) (news := cs.toList) (w.alloc (.cells cs E)) ty (hown.alloc _) (Rd.new (n := m) w cs E rfl (by omega) (by unfold maxLen; omega)) hm hx hb hb0 (by simp; omega)
  exact ⟨v', w', h1, h2, h3⟩

/-- A list of numbers that a call made in w hands back in w'. -/
def Gives (l : List Nat) (w : World) (e : Ending) (w' : World) : Prop :=
  ∃ A d, e = .returned (.slice A l.length d) ∧ w'.ownsRow w.heap.size 26 1 (.slice A l.length d) l.length (us l) ∧ Up w w'
theorem Gives.of {l : List Nat} {w w' : World} {v : Value} {n : Nat} (hn : n = l.length) (h : w'.ownsRow w.heap.size 26 1 v n (us l)) (hu : Up w w') : Gives l w (.returned v) w' := by
  obtain ⟨A, d, rfl, _⟩ := own_rd h
  subst hn
  exact ⟨A, d, rfl, h, hu⟩
theorem own_read {w : World} {base : Nat} {E : TypeId} {A : Option Addr} {n d : Nat} {xs : List Value} (h : w.ownsRow base E 1 (.slice A n d) n xs) : Rd w A d xs := by
  obtain ⟨A', c, e, hr⟩ := own_rd h
  injection e with e1 _ e3
  subst e1 e3
  exact hr
/-- A literal of numbers. -/
theorem own_lit (w : World) (l : List Nat) (n : Nat) (hn : n = l.length) (hm : n ≤ 1000) : (w.alloc (.cells (us l).toArray 26)).ownsRow w.heap.size 26 1 (.slice (some ⟨w.heap.size, 0, none⟩) n n) n (us l) := by
  subst hn
  have := World.ownsRow_lit (base := w.heap.size) (size := 1) (e := 26) w (us l).toArray l.length (Nat.le_refl _) (by unfold maxLen; omega) (by simp [us])
  simpa [us] using this

/-- What a call owns lies at the head of a block of its own. -/
theorem own_addr {w : World} {base : Nat} {E : TypeId} {A : Option Addr} {n d : Nat} {xs : List Value} (h : w.ownsRow base E 1 (.slice A n d) n xs) (hn : 0 < n) :
    ∃ g, A = some ⟨g, 0, none⟩ ∧ base ≤ g ∧ g < w.heap.size := by
  rcases h.2 with ⟨e, h0⟩ | ⟨g, cap, cur, e, hb, hg, _⟩
  · omega
  · injection e with e1 _ _
    exact ⟨g, e1, hb, (Array.getElem?_eq_some_iff.1 hg).1⟩
theorem Up.setCell {w wr : World} (h : Up w wr) {g : Nat} (hg : w.heap.size ≤ g) (j : Nat) (u : Value) : Up w (wr.setCell ⟨g, j, none⟩ u) := Below.setCell h hg u
theorem us_set (l : List Nat) (j : Nat) (z : Int) (hz : 0 ≤ z) : (us l).set j (.int .u32 z) = us (l.set j z.toNat) := by
  unfold us
  rw [List.map_set, Int.toNat_of_nonneg hz]

/-- 'append([]T{}, x...)' where the literal was made a while ago. -/
theorem own_empty (w : World) (E : TypeId) : (w.alloc (.cells #[] E)).ownsRow w.heap.size E 1 (.slice (some ⟨w.heap.size, 0, none⟩) 0 0) 0 [] := World.ownsRow_made w #[] 0 (Nat.le_refl _) (Nat.zero_le _) rfl
/-- append of numbers that read so. -/
theorem app_us {w : World} {base : Nat} {v : Value} {n : Nat} {xs : List Nat} (hown : w.ownsRow base 26 1 v n (us xs)) {A : Option Addr} {m c : Nat} {ys : List Nat} (hr : Rd w A c (us ys)) (hm : m = ys.length) (hb : n + m ≤ 30000000000000) (hbase : base ≤ w.heap.size) :
    ∃ B d w', (Builtin.append_ #[22, 22] 22 #[v, .slice A m c]).run Try.prog w = .ok (.slice B (n + m) d) w' ∧ w'.ownsRow base 26 1 (.slice B (n + m) d) (n + m) (us (xs ++ ys)) ∧ (∀ u, base = u.heap.size → Up u w → Up u w') := by
  obtain ⟨v', w4, hap, hown4, hg, _⟩ := elU.app (m := m) w 22 hown hr (by rw [us_len]; exact hm) (one_us ys) (by omega) (by omega) hbase
  rw [← us_append] at hown4
  obtain ⟨B, d, rfl, _⟩ := own_rd hown4
  exact ⟨B, d, w4, hap, hown4, fun u hu hup => hup.own hg (fun g hg => by have := (hown.lt g hg).1; omega)⟩

/-- What turns in memory that a call made: one element. -/
theorem own_bump {w : World} {base g n d : Nat} {ys : List Nat} (h : w.ownsRow base 26 1 (.slice (some ⟨g, 0, none⟩) n d) n (us ys)) (k : Nat) (z : Int) (hz : 0 ≤ z) :
    (w.setCell ⟨g, k, none⟩ (.int .u32 z)).ownsRow base 26 1 (.slice (some ⟨g, 0, none⟩) n d) n (us (ys.set k z.toNat)) := by
  have := (h.stored k (.int .u32 z)).1
  rwa [us_set _ _ _ hz] at this

theorem us_mid (P Q : List Nat) (x : Nat) : (us (P ++ x :: Q))[P.length]? = some (.int .u32 (x : Int)) := by
  unfold us
  rw [List.map_append, List.getElem?_append_right (by simp), List.length_map, Nat.sub_self]
  rfl
theorem own_mid {w : World} {base g n d : Nat} {P Q : List Nat} {x : Nat} (h : w.ownsRow base 26 1 (.slice (some ⟨g, 0, none⟩) n d) n (us (P ++ x :: Q))) {q : Nat} (hq : P.length = q) : w.cell? ⟨g, q, none⟩ = some (.int .u32 (x : Int)) := by
  subst hq
  have hl := h.1
  rw [us_len, List.length_append, List.length_cons] at hl
  rw [h.cellAt P.length (by omega), us_mid]

end Go.Proofs.Ythkbjbbffkgpfaa
