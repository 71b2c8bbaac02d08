/- Slices of slices of bytes that the call makes itself. -/
import Derived.Test.YtipemmjbgegmfaaGreatDoorSca
namespace Go.Proofs.YtipemmjbgegmfaaGreatDoor
open Go.RowKit

/-- The blocks that a value owns. -/
def vb (v : Value) : List Nat := v.ownBlock.toList
theorem mem_vb {v : Value} {b : Nat} : b ∈ vb v ↔ v.ownBlock = some b := by unfold vb; simp
/-- The value owns these bytes. -/
def Own (w : World) (v : Value) (l : List UInt8) : Prop := w.ownsRow 0 5 1 v l.length (bs l)

theorem owns_same {w w' : World} {e : TypeId} {v : Value} {n : Nat} {xs : List Value} (h : w.ownsRow 0 e 1 v n xs) (hs : ∀ b ∈ vb v, w'.heap[b]? = w.heap[b]?) : w'.ownsRow 0 e 1 v n xs := by
  refine ⟨h.1, ?_⟩
  rcases h.2 with hn | ⟨b, cap, cur, rfl, hb, hgg, rest⟩
  · exact .inl hn
  · exact .inr ⟨b, cap, cur, rfl, hb, by rw [hs b (mem_vb.2 rfl)]; exact hgg, rest⟩
theorem Own.same {w w' : World} {v : Value} {l : List UInt8} (h : Own w v l) (hs : ∀ b ∈ vb v, w'.heap[b]? = w.heap[b]?) : Own w' v l := owns_same h hs
theorem Own.rd {w : World} {v : Value} {l : List UInt8} (h : Own w v l) : ∃ A c, v = .slice A l.length c ∧ Rd w A c (bs l) := own_rd h
theorem Own.lt {w : World} {v : Value} {l : List UInt8} (h : Own w v l) : ∀ b ∈ vb v, b < w.heap.size := fun b hb => (World.ownsRow.lt h b (mem_vb.1 hb)).2

/-- v is a slice of slices that owns the blocks fs and reads as LL. -/
def RowsAt (w : World) (v : Value) (fs : List Nat) (LL : List (List UInt8)) : Prop :=
  ∃ vs ins, vs.length = LL.length ∧ w.ownsRow 0 31 1 v LL.length vs ∧ (∀ i, (h : i < LL.length) → ∃ u, vs[i]? = some u ∧ Own w u LL[i] ∧ ∀ b ∈ vb u, b ∈ ins) ∧ (∀ b ∈ vb v, b ∉ ins) ∧ fs = vb v ++ ins ∧ ∀ b ∈ fs, b < w.heap.size

theorem RowsAt.same {w w' : World} {v : Value} {fs : List Nat} {LL : List (List UInt8)} (h : RowsAt w v fs LL) (hs : ∀ b ∈ fs, w'.heap[b]? = w.heap[b]?) (hz : w.heap.size ≤ w'.heap.size) : RowsAt w' v fs LL := by
  obtain ⟨vs, ins, h1, h2, h3, h4, rfl, h6⟩ := h
  refine ⟨vs, ins, h1, owns_same h2 (fun b hb => hs b (List.mem_append_left _ hb)), fun i hi => ?_, h4, rfl, fun b hb => Nat.lt_of_lt_of_le (h6 b hb) hz⟩
  obtain ⟨u, hu, ho, hi⟩ := h3 i hi
  exact ⟨u, hu, ho.same (fun b hb => hs b (List.mem_append_right _ (hi b hb))), hi⟩
theorem RowsAt.up {w w' : World} {v : Value} {fs : List Nat} {LL : List (List UInt8)} (h : RowsAt w v fs LL) (hu : Up w w') : RowsAt w' v fs LL := by
  have h6 : ∀ b ∈ fs, b < w.heap.size := by obtain ⟨_, _, _, _, _, _, _, h6⟩ := h; exact h6
  exact h.same (fun b hb => hu.block b (h6 b hb)) hu.size
theorem RowsAt.lt {w : World} {v : Value} {fs : List Nat} {LL : List (List UInt8)} (h : RowsAt w v fs LL) : ∀ b ∈ fs, b < w.heap.size := by
  obtain ⟨_, _, _, _, _, _, _, h6⟩ := h; exact h6

theorem add0 (g j : Nat) : (⟨g, 0, none⟩ : Addr).add j = ⟨g, j, none⟩ := by unfold Addr.add; split <;> simp_all

/-- An element of it. -/
theorem RowsAt.get {w : World} {v : Value} {fs : List Nat} {LL : List (List UInt8)} (h : RowsAt w v fs LL) (i : Nat) (hi : i < LL.length) :
    ∃ g cap A c, v = .slice (some ⟨g, 0, none⟩) LL.length cap ∧ LL.length ≤ cap ∧ cap ≤ 9223372036854775807 ∧ w.cell? ⟨g, i, none⟩ = some (.slice A LL[i].length c) ∧ Rd w A c (bs LL[i]) ∧ (0 < c → ∀ a, A = some a → a.block ∈ fs) ∧ g ∈ fs := by
  obtain ⟨vs, ins, h1, h2, h3, h4, rfl, h6⟩ := h
  obtain ⟨u, hu, ho, hb⟩ := h3 i hi
  obtain ⟨A, c, rfl, hr⟩ := ho.rd
  rcases h2.2 with ⟨_, h0⟩ | ⟨g, cap, cur, rfl, _, hgg, hnc, hcm, _⟩
  · omega
  · have := World.ownsRow.cells h2 (g := g) rfl i _ hu
    rw [add0] at this
    unfold maxLen at hcm
    exact ⟨g, cap, A, c, rfl, hnc, by omega, this, hr, fun hc a ha => List.mem_append_right _ (hb _ (mem_vb.2 (by subst ha; rfl))), List.mem_append_left _ (mem_vb.2 rfl)⟩
/-- It as a value. -/
theorem RowsAt.val {w : World} {v : Value} {fs : List Nat} {LL : List (List UInt8)} (h : RowsAt w v fs LL) : ∃ A c, v = .slice A LL.length c ∧ LL.length ≤ c ∧ c ≤ 9223372036854775807 := by
  obtain ⟨vs, ins, h1, h2, h3, h4, rfl, h6⟩ := h
  rcases h2.2 with ⟨rfl, h0⟩ | ⟨g, cap, cur, rfl, _, hgg, hnc, hcm, _⟩
  · exact ⟨none, 0, by rw [h0], by omega, by omega⟩
  · unfold maxLen at hcm
    exact ⟨_, _, rfl, hnc, by omega⟩
theorem RowsAt.nil (w : World) : RowsAt w (.slice none 0 0) [] [] :=
  ⟨[], [], rfl, World.ownsRow_nil _ _ _ _, fun i h => absurd h (Nat.not_lt_zero _), fun b hb => by simp [vb, Value.ownBlock] at hb, rfl, fun b hb => by cases hb⟩

theorem infoR : (Tryz.prog.info? 31).map (fun i => (i.zero, i.size, i.bytes)) = some (some (.slice none 0 0), 1, 24) := by kernel_rfl
theorem elR : El 22 31 24 := ⟨Tryz.underlying22, by obtain ⟨i, h1, h2, h3, h4⟩ := info_parts infoR; exact ⟨i, _, h1, h2, h3, h4, rfl⟩⟩

theorem getElem_app_left {α : Type} (L M : List α) (i : Nat) (h : i < L.length) (h' : i < (L ++ M).length) : (L ++ M)[i] = L[i] := List.getElem_append_left h
theorem getElem_app_right {α : Type} (L M : List α) (i : Nat) (h : ¬ i < L.length) (h' : i < (L ++ M).length) : (L ++ M)[i] = M[i - L.length]'(by rw [List.length_append] at h'; omega) := List.getElem_append_right (by omega)

/-- append of elements that are owned. -/
theorem RowsAt.app {w : World} {v : Value} {fs : List Nat} {LL : List (List UInt8)} (h : RowsAt w v fs LL) (ty : TypeId) {A : Option Addr} {m c : Nat} {news : List Value} {LN : List (List UInt8)} {insN : List Nat} (hr : Rd w A c news) (hm : m = LN.length) (hl : news.length = LN.length)
    (hnews : ∀ i, (h : i < LN.length) → ∃ u, news[i]? = some u ∧ Own w u LN[i] ∧ ∀ b ∈ vb u, b ∈ insN) (hins : ∀ b ∈ insN, b < w.heap.size ∧ b ∉ fs) (hsz : (LL.length + m) * 24 ≤ 140737488355328) :
    ∃ v' w' fs', (Builtin.append_ #[22, 22] ty #[v, .slice A m c]).run Tryz.prog w = .ok v' w' ∧ RowsAt w' v' fs' (LL ++ LN) ∧ Fx (fun b => b ∈ fs) w w' ∧ ∀ b ∈ fs', b ∈ fs ∨ b ∈ insN ∨ w.heap.size ≤ b := by
  obtain ⟨vs, ins, h1, h2, h3, h4, rfl, h6⟩ := h
  have hone : ∀ u ∈ news, u.oneCell' = true := fun u hu => by
    obtain ⟨i, hi, rfl⟩ := List.mem_iff_getElem.1 hu
    obtain ⟨u, hu, ho, _⟩ := hnews i (by omega)
    rw [List.getElem?_eq_getElem hi] at hu
    injection hu with e
    obtain ⟨A, c, hv, _⟩ := ho.rd
    rw [e, hv]; rfl
  obtain ⟨v', w', hrun, hown, hgr, hblk⟩ := elR.app w ty h2 hr (by rw [hm, hl]) hone hsz (by decide) (Nat.zero_le _)
  have hvb : ∀ b ∈ vb v', b ∈ vb v ∨ w.heap.size ≤ b := fun b hb => by
    have hb := mem_vb.1 hb
    rcases hblk with e | e
    · exact .inl (mem_vb.2 (by rw [← e]; exact hb))
    · rw [e] at hb; injection hb with e; exact .inr (by omega)
  have keep : ∀ b, b < w.heap.size → b ∉ vb v → w'.heap[b]? = w.heap[b]? := fun b hb hn => hgr.block b hb (fun e => hn (mem_vb.2 e.symm))
  have hins' : ∀ b ∈ ins ++ insN, b < w.heap.size ∧ b ∉ vb v := fun b hb => by
    rcases List.mem_append.1 hb with hb | hb
    · exact ⟨h6 b (List.mem_append_right _ hb), fun hv => h4 b hv hb⟩
    · exact ⟨(hins b hb).1, fun hv => (hins b hb).2 (List.mem_append_left _ hv)⟩
  refine ⟨v', w', vb v' ++ (ins ++ insN), hrun, ⟨vs ++ news, ins ++ insN, by rw [List.length_append, List.length_append, h1, hl], by rw [List.length_append, ← hm]; exact hown, fun i hi => ?_, fun b hb hn => ?_, rfl, fun b hb => ?_⟩,
    ⟨hgr.os, hgr.tape, hgr.output, hgr.size, fun b hb hn => keep b hb (fun hv => hn (List.mem_append_left _ hv))⟩, fun b hb => ?_⟩
  · by_cases hlt : i < LL.length
    · obtain ⟨u, hu, ho, hb⟩ := h3 i hlt
      refine ⟨u, by rw [List.getElem?_append_left (by omega)]; exact hu, ?_, fun b hbb => List.mem_append_left _ (hb b hbb)⟩
      rw [getElem_app_left LL LN i hlt hi]
      exact ho.same (fun b hbb => keep b (hins' b (List.mem_append_left _ (hb b hbb))).1 (hins' b (List.mem_append_left _ (hb b hbb))).2)
    · rw [List.length_append] at hi
      obtain ⟨u, hu, ho, hb⟩ := hnews (i - LL.length) (by omega)
      refine ⟨u, by rw [List.getElem?_append_right (by omega), h1]; exact hu, ?_, fun b hbb => List.mem_append_right _ (hb b hbb)⟩
      rw [getElem_app_right LL LN i hlt (by rw [List.length_append]; exact hi)]
      exact ho.same (fun b hbb => keep b (hins' b (List.mem_append_right _ (hb b hbb))).1 (hins' b (List.mem_append_right _ (hb b hbb))).2)
  · rcases hvb b hb with hv | hv
    · exact (hins' b hn).2 hv
    · have := (hins' b hn).1; omega
  · rcases List.mem_append.1 hb with hb | hb
    · exact (World.ownsRow.lt hown b (mem_vb.1 hb)).2
    · exact Nat.lt_of_lt_of_le (hins' b hb).1 hgr.size
  · rcases List.mem_append.1 hb with hb | hb
    · rcases hvb b hb with hv | hv
      · exact .inl (List.mem_append_left _ hv)
      · exact .inr (.inr hv)
    · rcases List.mem_append.1 hb with hb | hb
      · exact .inl (List.mem_append_right _ hb)
      · exact .inr (.inl hb)

/-- A literal slice of owned elements. -/
theorem Own.alloc {w : World} {v : Value} {l : List UInt8} (h : Own w v l) (o : Obj) : Own (w.alloc o) v l := World.ownsRow.alloc h o

end Go.Proofs.YtipemmjbgegmfaaGreatDoor
