/- The program's iterators handed to AppendSeq and Collect: Full. -/
import Derived.Test.YthdhlcafomhdbaaDoorEac
namespace Go.Proofs.YthdhlcafomhdbaaDoor
open Go.RowKit Go.Shelf

attribute [local go_sem] Oper.semAt_some

abbrev encU (x : Nat) : Array Value := #[.int .u32 (x : Int)]

theorem parts_prog (c : Nat) (w : World) : Calls Tryd.prog 17 #[.int .u32 (c : Int)] w fun e w' =>
    e = .returned (.func (.func 23) #[] #[.pointer (some ⟨w.heap.size, 0, none⟩)]) ∧ w' = w.alloc (.cells #[.int .u32 (c : Int)] 22) := by
  go_enter Tryd.func17, Tryd.ntmps17
  go_wp2_with fail
  go_ret
  exact ⟨rfl, rfl⟩

theorem abides_up {B : Nat} {J : List Nat → World → Prop} (h : AbidesFrom B J) : ∀ s W W', J s W → Up W W' → J s W' := fun s W W' hs u => h s W W' none hs u.gb (fun r e => by cases e)

/-- What parts tells gives the full decomposition. -/
theorem parts_stops (n n₀ : Nat) (w0 w : World) (h0 : HRows w0) (hn : n₀ = w0.heap.size) (hb0 : Below n₀ w0 w) (c b : Nat) (hb : b < w.heap.size) (hc : w.cell? ⟨b, 0, none⟩ = some (.int .u32 (c : Int))) :
    SeqStopsK Fence.wide n Tryd.prog 23 #[.pointer (some ⟨b, 0, none⟩)] encU (Below n₀) (fun ys => ys = full c) (fun q => q ≠ [] ∧ q <+: full c) (full c).length w := by
  intro l J Jx W hW hJ hJx hY hj
  have hE := each_full (l := l) (n₀ := n₀) (N := (full c).length) h0 hn (J := J) (Jx := Jx) (abides_up hJ) (fun m pre x W1 h1 h2 => yield_any m (hY pre x W1 h1 h2)) c (n - 1) [] W
    (hb0.trans (hW.mono (by have := hb0.size; omega))) hj (by simp)
  have hcW : W.cell? ⟨b, 0, none⟩ = some (.int .u32 (c : Int)) := (hW.cell (p := ⟨b, 0, none⟩) hb).trans hc
  generalize full c = L at *
  refine callsIn_of_wp Tryd.func23 rfl trivial ?_ rfl
  simp only [Tryd.ntmps23, List.size_toArray, List.length_cons, List.length_nil, Nat.reduceAdd, Nat.reduceSub, Array.replicate_succ, Array.replicate_zero, List.push_toArray, List.append_toArray, List.nil_append, List.cons_append]
  gi_wp2_with fail
  refine ⟨trivial, fun h => (by cases h), ?_⟩
  refine hE.mono ?_
  rintro e W1 (⟨rfl, hj1, _⟩ | ⟨rfl, q, hq0, hq, hx⟩)
  · gi_wp2_with fail
    go_end0
    exact ⟨⟨_, rfl⟩, .inl ⟨_, rfl, by simpa using hj1⟩⟩
  · gi_wp2_with fail
    go_end0
    exact ⟨⟨_, rfl⟩, .inr ⟨q, ⟨hq0, hq⟩, by simpa using hx⟩⟩

/-- A list that has come so far, in a block of the call's own, behind the box Bs. -/
structure Acc (w : World) (Bs : Nat) (l : List Nat) (W : World) : Prop where
  box : ∃ v, W.heap[Bs]? = some (.cells #[v] 23 (0, 0)) ∧ W.ownsRow w.heap.size 22 1 v l.length (us l)
  below : Below w.heap.size w W

theorem own_not_other {W W' : World} {row : Option Nat} {base : Nat} {e : TypeId} {v : Value} {k : Nat} {xs : List Value} (h : W.ownsRow base e 1 v k xs) (hg : W.grownBy W' row)
    (hrow : ∀ r, row = some r → ∃ o : Obj, W.heap[r]? = some o ∧ o.isCells = false) : W'.ownsRow base e 1 v k xs := by
  refine h.kept hg ?_
  rcases h.2 with ⟨rfl, _⟩ | ⟨g, cap, cur, rfl, _, hgb, _⟩
  · exact .inl rfl
  · refine .inr fun e' => ?_
    obtain ⟨o, ho, hw⟩ := hrow g (by simpa [Value.ownBlock] using e'.symm)
    rw [hgb] at ho; cases ho; cases hw

theorem Acc.abides {w : World} {Bs B : Nat} (hB : w.heap.size ≤ B) (f : List Nat → List Nat) : OwnFrom B (fun pre => Acc w Bs (f pre)) := fun s W W' row h hg hr => by
  have hr' : ∀ r, row = some r → ∃ o : Obj, W.heap[r]? = some o ∧ o.isCells = false := fun r e => (hr r e).2
  obtain ⟨v, hv, ho⟩ := h.box
  exact ⟨⟨v, (grownBy_keeps_cells hg hr' hv rfl).trans hv, own_not_other ho hg hr'⟩, h.below.grown hg h.below.size (fun k e => Nat.le_trans hB (hr k e).1)⟩
theorem Acc.turn {w : World} {Bs : Nat} {l : List Nat} {W : World} (h : Acc w Bs l W) {D : Nat} {o : Obj} (o' : Obj) (hD : w.heap.size ≤ D) (hk : W.heap[D]? = some o) (ho : o.isCells = false) : Acc w Bs l (W.putObj D o') :=
  (Acc.abides (B := w.heap.size) (Nat.le_refl _) (fun _ => l)) [] W _ (some D) h (grownBy_putObj' W D o') (fun r e => by cases e; exact ⟨hD, o, hk, ho⟩)

theorem cell_box {W : World} {B : Nat} {v : Value} {t : TypeId} (h : W.heap[B]? = some (.cells #[v] t (0, 0))) : W.cell? ⟨B, 0, none⟩ = some v ∧ W.frozen? ⟨B, 0, none⟩ = false := by
  constructor <;> simp [World.cell?, World.frozen?, h]
theorem heap_set_box {W : World} {B : Nat} {v : Value} {t : TypeId} (v' : Value) (h : W.heap[B]? = some (.cells #[v] t (0, 0))) : (W.setCell ⟨B, 0, none⟩ v').heap[B]? = some (.cells #[v'] t (0, 0)) := by
  obtain ⟨hlt, hk⟩ := Array.getElem?_eq_some_iff.1 h
  show (W.heap.modify B _)[B]? = _
  rw [Array.getElem?_eq_getElem (by rw [Array.size_modify]; exact hlt), Array.getElem_modify_self, hk]
  rfl
theorem grown_set0 (W : World) (b : Nat) (v : Value) : W.grownBy (W.setCell ⟨b, 0, none⟩ v) (some b) :=
  ⟨rfl, rfl, rfl, (KeepsWalks.setCell W _ v).size, fun k _ hk => Below.heap_setCell _ _ _ k (fun e => hk (by rw [e]))⟩
theorem own_ne_box {W : World} {base : Nat} {E T : TypeId} {v u : Value} {k : Nat} {xs : List Value} (h : W.ownsRow base E 1 v k xs) {j : Nat} (hj : W.heap[j]? = some (.cells #[u] T (0, 0))) (hne : T ≠ E) :
    v.ownBlock = none ∨ v.ownBlock ≠ some j := by
  rcases h.2 with ⟨rfl, _⟩ | ⟨g, cap, cur, rfl, _, hgb, _⟩
  · exact .inl rfl
  · refine .inr fun e' => ?_
    have : g = j := by simpa [Value.ownBlock] using e'
    subst this; rw [hgb] at hj; cases hj; exact hne rfl

/-- One number is appended, and the box holds it: behind 'append(all, x)' and its store. -/
theorem Acc.step {w W w3 : World} {Bs : Nat} {l : List Nat} {v v' : Value} {x : Nat} (hBs : w.heap.size ≤ Bs) (hb : Below w.heap.size w W) (hv : W.heap[Bs]? = some (.cells #[v] 23 (0, 0)))
    (ho : W.ownsRow w.heap.size 22 1 v l.length (us l))
    (ho' : w3.ownsRow w.heap.size 22 1 v' (l.length + 1) (us l ++ [.int .u32 (x : Int)])) (hg : (W.alloc (.cells #[.int .u32 (x : Int)] 22)).grownBy w3 v.ownBlock) :
    w3.heap[Bs]? = some (.cells #[v] 23 (0, 0)) ∧ Acc w Bs (l ++ [x]) (w3.setCell ⟨Bs, 0, none⟩ v') ∧ KeepsOthers W (w3.setCell ⟨Bs, 0, none⟩ v') ∧ Below w.heap.size W (w3.setCell ⟨Bs, 0, none⟩ v') := by
  have hBlt : Bs < W.heap.size := (Array.getElem?_eq_some_iff.1 hv).1
  have hne : some Bs ≠ v.ownBlock := by
    rcases own_ne_box ho hv (by decide) with e | e
    · rw [e]; simp
    · exact fun e' => e e'.symm
  have hv3 : w3.heap[Bs]? = some (.cells #[v] 23 (0, 0)) := (hg.block Bs (by simp; omega) hne).trans ((Below.heap_alloc _ _ Bs hBlt).trans hv)
  have hown4 : (w3.setCell ⟨Bs, 0, none⟩ v').ownsRow w.heap.size 22 1 v' (l.length + 1) (us l ++ [.int .u32 (x : Int)]) := ho'.kept (grown_set0 _ _ _) (own_ne_box ho' hv3 (by decide))
  have hlow : ∀ k, v.ownBlock = some k → w.heap.size ≤ k := fun k e => (ho.lt k e).1
  have hW3 : Below w.heap.size W w3 := ((Below.refl w.heap.size W).alloc hb.size _).grown hg (by have := hb.size; simp; omega) hlow
  have hW4 : Below w.heap.size W (w3.setCell ⟨Bs, 0, none⟩ v') := hW3.setCell (p := ⟨Bs, 0, none⟩) hBs _
  refine ⟨hv3, ⟨⟨v', heap_set_box _ hv3, ?_⟩, hb.trans hW4⟩, ?_, hW4⟩
  · simpa [us] using hown4
  · refine ((KeepsOthers.alloc W _).trans (KeepsOthers.of_grownBy hg ?_)).trans (KeepsOthers.setCell _ _ _)
    intro j o hj ho2
    rcases (World.ownsRow.alloc ho (.cells #[.int .u32 (x : Int)] 22)).2 with ⟨rfl, _⟩ | ⟨g, cap, cur, rfl, _, hgb, _⟩
    · cases hj
    · have : g = j := by simpa [Value.ownBlock] using hj
      subst this; rw [hgb] at ho2; cases ho2; rfl

end Go.Proofs.YthdhlcafomhdbaaDoor
