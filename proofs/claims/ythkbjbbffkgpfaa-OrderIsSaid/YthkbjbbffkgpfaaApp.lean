/- append onto a row of the call's own, and a copy of what came in. -/
import Derived.Test.YthkbjbbffkgpfaaArgs
import Derived.Maps.AppendAt
import Derived.OwnWalk
namespace Go.Proofs.Ythkbjbbffkgpfaa
open Go.RowKit

/-- A slice type T of elements E of one cell and so many bytes. -/
structure El (T E : TypeId) (b : Nat) : Prop where
  u : Try.prog.underlying T = some (.slice E)
  i : ∃ i z, Try.prog.info? E = some i ∧ i.zero = some z ∧ i.size = 1 ∧ i.bytes = b ∧ z.cells.size = 1

theorem infoB : (Try.prog.info? 5).map (fun i => (i.zero, i.size, i.bytes)) = some (some (.int .u8 0), 1, 1) := by kernel_rfl
theorem infoU : (Try.prog.info? 26).map (fun i => (i.zero, i.size, i.bytes)) = some (some (.int .u32 0), 1, 4) := by kernel_rfl
theorem elU : El 22 26 4 := ⟨Try.underlying22, by obtain ⟨i, h1, h2, h3, h4⟩ := info_parts infoU; exact ⟨i, _, h1, h2, h3, h4, rfl⟩⟩

theorem one_bs (l : List UInt8) : ∀ u ∈ bs l, u.oneCell' = true := by
  intro u hu
  obtain ⟨b, _, rfl⟩ := List.mem_map.1 hu
  rfl
theorem one_us (l : List Nat) : ∀ u ∈ us l, u.oneCell' = true := by
  intro u hu
  obtain ⟨b, _, rfl⟩ := List.mem_map.1 hu
  rfl

/-- What the call owns reads as a list. -/
theorem own_rd {w : World} {base : Nat} {E : TypeId} {v : Value} {n : Nat} {xs : List Value} (h : w.ownsRow base E 1 v n xs) : ∃ A c, v = .slice A n c ∧ Rd w A c xs := by
  have hl : xs.length = n := by simpa using h.1
  rcases h.2 with ⟨rfl, h0⟩ | ⟨g, cap, cur, rfl, hb, hg, hnc, hcm, hcs, ht⟩
  · subst h0
    have hx : xs = [] := List.eq_nil_of_length_eq_zero hl
    subst hx
    exact ⟨none, 0, rfl, Rd.empty w⟩
  · refine ⟨_, _, rfl, ⟨by omega, hcm, fun _ => ⟨_, rfl, (Array.getElem?_eq_some_iff.1 hg).1⟩, fun _ => .inr ⟨_, rfl⟩, fun a ha j u hu => ?_⟩⟩
    injection ha with e
    subst e
    exact h.cells (g := g) rfl j u hu

theorem run_app_nil {T E : TypeId} {b : Nat} (h : El T E b) (w : World) (ty : TypeId) {base : Nat} {v : Value} {n : Nat} {xs : List Value} (hown : w.ownsRow base E 1 v n xs) (c : Nat) :
    (Builtin.append_ #[T, T] ty #[v, .slice none 0 c]).run Try.prog w = .ok v w := by
  obtain ⟨i, z, hi, _⟩ := h.i
  rcases hown.2 with ⟨rfl, rfl⟩ | ⟨g, cap, cur, rfl, _, _, hnc, _⟩
  · simp [Builtin.append_, run_underlying h.u, sizeOf, typeInfo, hi, Builtin.lenOf, Builtin.firstCells]
  · simp [Builtin.append_, run_underlying h.u, sizeOf, typeInfo, hi, Builtin.lenOf, Builtin.firstCells, hnc, storeCells]

theorem El.app {T E : TypeId} {b : Nat} (h : El T E b) (w : World) (ty : TypeId) {base : Nat} {v : Value} {n : Nat} {xs : List Value} (hown : w.ownsRow base E 1 v n xs)
    {A : Option Addr} {m c : Nat} {news : List Value} (hr : Rd w A c news) (hm : m = news.length) (h1 : ∀ u ∈ news, u.oneCell' = true) (hb : (n + m) * b ≤ 140737488355328) (hb0 : 0 < b) (hbase : base ≤ w.heap.size) :
    ∃ v' w', (Builtin.append_ #[T, T] ty #[v, .slice A m c]).run Try.prog w = .ok v' w' ∧ w'.ownsRow base E 1 v' (n + m) (xs ++ news) ∧ w.grownBy w' v.ownBlock ∧ (v'.ownBlock = v.ownBlock ∨ v'.ownBlock = some w.heap.size) := by
  subst hm
  cases A with
  | none =>
    have hc : c = 0 := by
      rcases Nat.eq_zero_or_pos c with h0 | h0
      · exact h0
      · obtain ⟨a, ha, _⟩ := hr.ad h0; cases ha
    have hn : news = [] := by
      have := hr.fit
      exact List.eq_nil_of_length_eq_zero (by omega)
    subst hn
    exact ⟨v, w, run_app_nil h w ty hown c, by simpa using hown, ⟨rfl, rfl, rfl, Nat.le_refl _, fun _ _ _ => rfl⟩, .inl rfl⟩
  | some a =>
    obtain ⟨i, z, hi, hz, hs, hby, hzs⟩ := h.i
    have hnm : n + news.length ≤ 140737488355328 := Nat.le_trans (Nat.le_mul_of_pos_right _ hb0) hb
    obtain ⟨v', w', hrun, h2, h3, _, h5⟩ := run_append_own_at (P := Try.prog) w base T ty E i z 1 b h.u hi hz hs hby hzs (by omega) v n xs hown a news.length c news (by omega) (fun j u hu => hr.cell a rfl j u hu) h1 (by unfold maxLen; omega) hb hbase
    exact ⟨v', w', hrun, h2, h3, h5⟩

/-- 'append([]T{}, x...)': a copy: the literal's own block is there already. -/
theorem El.copy {T E : TypeId} {b : Nat} (h : El T E b) (w : World) (ty : TypeId) {A : Option Addr} {m c : Nat} {xs : List Value} (hr : Rd w A c xs) (hm : m = xs.length) (h1 : ∀ u ∈ xs, u.oneCell' = true) (hb : m * b ≤ 140737488355328) (hb0 : 0 < b) :
    ∃ A' c' w', (Builtin.append_ #[T, T] ty #[.slice (some ⟨w.heap.size, 0, none⟩) 0 0, .slice A m c]).run Try.prog (w.alloc (.cells #[] E)) = .ok (.slice A' m c') w' ∧ Rd w' A' c' xs ∧ Up w w' ∧ w'.ownsRow w.heap.size E 1 (.slice A' m c') m xs := by
  have hown : (w.alloc (.cells #[] E)).ownsRow w.heap.size E 1 (.slice (some ⟨w.heap.size, 0, none⟩) 0 0) 0 [] := World.ownsRow_made w #[] 0 (Nat.le_refl _) (Nat.zero_le _) rfl
  obtain ⟨v', w', hrun, h2, h3, _⟩ := h.app (w.alloc (.cells #[] E)) ty hown (hr.up ((Up.refl w).alloc _)) hm h1 (by simpa using hb) hb0 (by simp)
  obtain ⟨A', c', rfl, hrd⟩ := own_rd h2
  simp only [Nat.zero_add, List.nil_append] at hrun hrd h2
  refine ⟨A', c', w', hrun, hrd, ?_, h2⟩
  exact Below.grown ((Up.refl w).alloc _) h3 (by simp) (fun k hk => by simp [Value.ownBlock] at hk; omega)

/-- append at the operation, from what its run is known to be: in a list of operations, and in a region that draws. -/
theorem wp_app {P : Program} {o : Oper} {a : Act} {w w' : World} {K : Act → World → Prop} {Q : Exit → Act → World → Prop} (s x : Operand) (t : TypeId)
    (ho : o.op = .call { callee := .builtin .append, args := #[s, x], argTypes := #[t, t] }) {v y v' : Value} (hs : a.eval s = v) (hx : a.eval x = y)
    (hrun : (Builtin.append_ #[t, t] o.type #[v, y]).run P w = .ok v' w') (h : K (a.put o.dst v') w') : o.wp P a w K Q := by
  unfold Oper.wp execOp
  simp only [ho, resolve, invoke, builtin, Sem.run_bind, Sem.run_pure, Result.andThen_ok, List.map_toArray, List.map_cons, List.map_nil, hs, hx, hrun]
  exact h
theorem wpList_app {P : Program} {ops : Array Oper} {rest : List Oper} {o : Oper} {a : Act} {w w' : World} {Q : Exit → Act → World → Prop} (hw : Region.wanted o (yielded ops a.tmps) = true) (s x : Operand) (t : TypeId)
    (ho : o.op = .call { callee := .builtin .append, args := #[s, x], argTypes := #[t, t] }) {v y v' : Value} (hs : a.eval s = v) (hx : a.eval x = y)
    (hrun : (Builtin.append_ #[t, t] o.type #[v, y]).run P w = .ok v' w') (h : wpList P ops Q rest (a.put o.dst v') w') : wpList P ops Q (o :: rest) a w :=
  BigFrame.wpList_want hw fun _ hK => wp_app s x t ho hs hx hrun (hK _ _ h)

/-- A smaller base. -/
theorem own_base {w : World} {base base' : Nat} {e : TypeId} {size : Nat} {v : Value} {n : Nat} {xs : List Value} (h : w.ownsRow base e size v n xs) (hb : base' ≤ base) : w.ownsRow base' e size v n xs := by
  refine ⟨h.1, ?_⟩
  rcases h.2 with hn | ⟨b, cap, cur, rfl, hb2, rest⟩
  · exact .inl hn
  · exact .inr ⟨b, cap, cur, rfl, by omega, rest⟩

end Go.Proofs.Ythkbjbbffkgpfaa
