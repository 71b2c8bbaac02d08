/- Worlds in which two blocks may be written; objects by their cells; copy. -/
import Derived.Test.YthgjjlllifcegaaBas
import Derived.Laws.CopyRow
namespace Go.Proofs.Ythgjjlllifcegaa
open Go.RowKit

/-- From w to w' memory was made, and the blocks g and k may have been written: nothing else has turned. -/
structure Fr (g k : Nat) (w w' : World) : Prop where
  os : w'.os = w.os
  tape : w'.tape = w.tape
  output : w'.output = w.output
  size : w.heap.size ≤ w'.heap.size
  block : ∀ i, i < w.heap.size → i ≠ g → i ≠ k → w'.heap[i]? = w.heap[i]?

theorem Fr.refl (g k : Nat) (w : World) : Fr g k w w := ⟨rfl, rfl, rfl, Nat.le_refl _, fun _ _ _ _ => rfl⟩
theorem Fr.trans {g k g' k' : Nat} {a b c : World} (h : Fr g k a b) (h2 : Fr g' k' b c) (hg : g' = g ∨ g' = k ∨ a.heap.size ≤ g') (hk : k' = g ∨ k' = k ∨ a.heap.size ≤ k') : Fr g k a c :=
  ⟨h2.os.trans h.os, h2.tape.trans h.tape, h2.output.trans h.output, Nat.le_trans h.size h2.size, fun i hi h3 h4 => by
    have := h.size
    rw [h2.block i (by omega) (by omega) (by omega), h.block i hi h3 h4]⟩
theorem Fr.of_up {w w' : World} (h : Up w w') (g k : Nat) : Fr g k w w' := ⟨h.os, h.tape, h.output, h.size, fun i hi _ _ => h.block i hi⟩
/-- What was written was made behind the beginning: then nothing that was there has turned. -/
theorem Up.fr {a b c : World} {g k : Nat} (h : Up a b) (h2 : Fr g k b c) (hg : a.heap.size ≤ g) (hk : a.heap.size ≤ k) : Up a c :=
  ⟨h2.os.trans h.os, h2.tape.trans h.tape, h2.output.trans h.output, Nat.le_trans h.size h2.size, fun i hi => by
    have := h.size
    rw [h2.block i (by omega) (by omega) (by omega)]; exact h.block i hi⟩
theorem Fr.setCell {g k : Nat} {a b : World} (h : Fr g k a b) {p : Addr} (hp : p.block = g ∨ p.block = k ∨ a.heap.size ≤ p.block) (u : Value) : Fr g k a (b.setCell p u) :=
  ⟨h.os, h.tape, h.output, by have := h.size; simpa [World.setCell] using this, fun i hi h3 h4 => by
    rw [Below.heap_setCell _ _ _ _ (by omega)]; exact h.block i hi h3 h4⟩
theorem Fr.up {g k : Nat} {a b c : World} (h : Fr g k a b) (h2 : Up b c) : Fr g k a c :=
  h.trans (Fr.of_up h2 g k) (.inl rfl) (.inr (.inl rfl))
theorem Fr.alloc {g k : Nat} {a b : World} (h : Fr g k a b) (o : Obj) : Fr g k a (b.alloc o) := h.up ((Up.refl b).alloc o)
theorem Fr.grown {g k : Nat} {a b c : World} {row : Option Nat} (h : Fr g k a b) (hg : b.grownBy c row) (hr : ∀ i, row = some i → i = g ∨ i = k ∨ a.heap.size ≤ i) : Fr g k a c :=
  ⟨hg.os.trans h.os, hg.tape.trans h.tape, hg.output.trans h.output, Nat.le_trans h.size hg.size, fun i hi h3 h4 => by
    have := h.size
    rw [hg.block i (by omega) (fun e => by have := hr i e.symm; omega)]; exact h.block i hi h3 h4⟩

theorem Rd.fr {w w' : World} {A : Option Addr} {c : Nat} {xs : List Value} (h : Rd w A c xs) {g k : Nat} (hf : Fr g k w w') (hne : 0 < c → ∀ a, A = some a → a.block ≠ g ∧ a.block ≠ k) : Rd w' A c xs := by
  refine ⟨h.fit, h.max, fun hc => ?_, h.nil, fun a ha j u hj => ?_⟩
  · obtain ⟨a, ha, hb⟩ := h.ad hc
    exact ⟨a, ha, Nat.lt_of_lt_of_le hb hf.size⟩
  · have hlen : 0 < c := by
      have := (List.getElem?_eq_some_iff.1 hj).1
      have := h.fit
      omega
    obtain ⟨a', ha', hb⟩ := h.ad hlen
    rw [ha] at ha'
    injection ha' with e
    subst e
    have hn := hne hlen a ha
    refine (World.cell?_of_block (w := w) (hf.block _ ?_ ?_ ?_)).trans (h.cell a ha j u hj)
    · rw [addr_block]; exact hb
    · rw [addr_block]; exact hn.1
    · rw [addr_block]; exact hn.2

/-! ### An object by its cells -/
theorem obj_cell {w : World} {g : Nat} {cur : Array Value} {t : TypeId} {fr : Nat × Nat} (h : w.heap[g]? = some (.cells cur t fr)) (i : Nat) : w.cell? ⟨g, i, none⟩ = cur[i]? := by
  simp [World.cell?, h]
theorem obj_frozen {w : World} {g : Nat} {cur : Array Value} {t : TypeId} (h : w.heap[g]? = some (.cells cur t (0, 0))) (i : Nat) : w.frozen? ⟨g, i, none⟩ = false := by
  simp [World.frozen?, h]
theorem obj_set {w : World} {g : Nat} {cur : Array Value} {t : TypeId} {fr : Nat × Nat} (h : w.heap[g]? = some (.cells cur t fr)) (i : Nat) (v : Value) :
    (w.setCell ⟨g, i, none⟩ v).heap[g]? = some (.cells (cur.setIfInBounds i v) t fr) := by
  simp only [World.setCell, Array.getElem?_modify, h]
  simp
theorem obj_lt {w : World} {g : Nat} {o : Obj} (h : w.heap[g]? = some o) : g < w.heap.size := (Array.getElem?_eq_some_iff.1 h).1
theorem obj_up {w w' : World} {g : Nat} {o : Obj} (h : w.heap[g]? = some o) (hu : Up w w') : w'.heap[g]? = some o := (hu.block g (obj_lt h)).trans h
theorem obj_fr {w w' : World} {g : Nat} {o : Obj} (h : w.heap[g]? = some o) {g1 k1 : Nat} (hf : Fr g1 k1 w w') (h1 : g ≠ g1) (h2 : g ≠ k1) : w'.heap[g]? = some o := (hf.block g (obj_lt h) h1 h2).trans h

/-- A row of an object's own reads as its cells. -/
theorem Rd.obj {w : World} {g : Nat} {cur : Array Value} {t : TypeId} {fr : Nat × Nat} (h : w.heap[g]? = some (.cells cur t fr)) {xs : List Value} {c : Nat} (hc : xs.length ≤ c) (hm : c ≤ maxLen) (hx : cur.toList.take xs.length = xs) :
    Rd w (some ⟨g, 0, none⟩) c xs := by
  refine ⟨hc, hm, fun _ => ⟨_, rfl, obj_lt h⟩, fun _ => .inr ⟨_, rfl⟩, fun a ha j u hu => ?_⟩
  injection ha with e
  subst e
  have hadd : (⟨g, 0, none⟩ : Addr).add j = ⟨g, j, none⟩ := by unfold Addr.add; split <;> simp_all
  have hj := (List.getElem?_eq_some_iff.1 hu).1
  rw [hadd, obj_cell h, ← Array.getElem?_toList]
  rw [← hx, List.getElem?_take, if_pos hj] at hu
  exact hu

theorem own_fr {w w' : World} {base : Nat} {e : TypeId} {size : Nat} {v : Value} {n : Nat} {xs : List Value} (h : w.ownsRow base e size v n xs) {g k : Nat} (hf : Fr g k w w') (hne : ∀ b, v.ownBlock = some b → b ≠ g ∧ b ≠ k) : w'.ownsRow base e size v n xs := by
  refine ⟨h.1, ?_⟩
  rcases h.2 with hn | ⟨b, cap, cur, rfl, hb, hgg, rest⟩
  · exact .inl hn
  · have := hne b rfl
    exact .inr ⟨b, cap, cur, rfl, hb, obj_fr hgg hf this.1 this.2, rest⟩

theorem wp_copy {P : Program} {o : Oper} {a : Act} {w w' : World} {K : Act → World → Prop} {Q : Exit → Act → World → Prop} (s x : Operand) (t t' : TypeId)
    (ho : o.op = .call { callee := .builtin .copy, args := #[s, x], argTypes := #[t, t'] }) {v y v' : Value} (hs : a.eval s = v) (hx : a.eval x = y)
    (hrun : (Builtin.copy_ #[t, t'] o.type #[v, y]).run P w = .ok v' w') (h : K (a.put o.dst v') w') : o.wp P a w K Q := by
  unfold Oper.wp execOp
  simp only [ho, resolve, invoke, builtin, Sem.run_bind, Sem.run_pure, Result.andThen_ok, List.map_toArray, List.map_cons, List.map_nil, hs, hx, hrun]
  exact h
theorem wpList_copy {P : Program} {ops : Array Oper} {rest : List Oper} {o : Oper} {a : Act} {w w' : World} {Q : Exit → Act → World → Prop} (hw : Region.wanted o (yielded ops a.tmps) = true) (s x : Operand) (t t' : TypeId)
    (ho : o.op = .call { callee := .builtin .copy, args := #[s, x], argTypes := #[t, t'] }) {v y v' : Value} (hs : a.eval s = v) (hx : a.eval x = y)
    (hrun : (Builtin.copy_ #[t, t'] o.type #[v, y]).run P w = .ok v' w') (h : wpList P ops Q rest (a.put o.dst v') w') : wpList P ops Q (o :: rest) a w :=
  BigFrame.wpList_want hw fun _ hK => wp_copy s x t t' ho hs hx hrun (hK _ _ h)

theorem heap_setRow {w : World} {g : Nat} {cur : Array Value} {t : TypeId} {fr : Nat × Nat} (h : w.heap[g]? = some (.cells cur t fr)) (cs : Array Value) : (w.setRow g cs).heap[g]? = some (.cells cs t fr) := by
  simp only [World.setRow, Array.getElem?_modify, h]
  simp

/-- copy of bytes into a row of the call's own. -/
theorem copy_bytes {w : World} {g : Nat} {cur : Array Value} {t : TypeId} (hg : w.heap[g]? = some (.cells cur t (0, 0))) (ty : TypeId) {dLen dCap : Nat} {a : Addr} {n c : Nat} {l : List UInt8} (h : Rd w (some a) c (bs l)) (hn : n = l.length) (hd : n ≤ dLen) (hc : n ≤ cur.size) :
    ∃ w', (Builtin.copy_ #[22, 22] ty #[.slice (some ⟨g, 0, none⟩) dLen dCap, .slice (some a) n c]).run Try.prog w = .ok (goInt n) w' ∧
      w'.heap[g]? = some (.cells (bs l ++ cur.toList.drop n).toArray t (0, 0)) ∧ Fr g g w w' := by
  subst hn
  have run := run_copy_row Try.prog w 22 22 ty 5 g 0 dLen dCap a l.length c cur t (bs l) uB (by have := infoB; revert this; cases Try.prog.info? 5 <;> simp <;> intros <;> assumption) hg
      (by rw [bs_len]; exact (Nat.min_eq_left hd).symm) (fun j v hj => h.cell a rfl j v hj) (by rw [bs_len]; omega) (one_bs l)
  rw [bs_len] at run
  refine ⟨_, run, ?_, ?_⟩
  · rw [heap_setRow hg]
    simp
  · refine ⟨rfl, rfl, rfl, by simp [World.setRow], fun i hi h1 _ => ?_⟩
    simp only [World.setRow, Array.getElem?_modify]
    rw [if_neg (fun e => h1 e.symm)]

end Go.Proofs.Ythgjjlllifcegaa
