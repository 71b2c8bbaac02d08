/- Steps of a drawn region whose values own rows of bytes. -/
import Derived.Test.YtipemmjbgegmfaaGreatDoorRow
namespace Go.Proofs.YtipemmjbgegmfaaGreatDoor
open Go.RowKit

/-- What an operation's value owns. -/
inductive Kd where
  | no
  | own (l : List UInt8)
  | rows (LL : List (List UInt8))
def Kd.at : Kd → Value → List Nat → World → Prop
  | .no, _, fs, _ => fs = []
  | .own l, v, fs, w => Own w v l ∧ fs = vb v
  | .rows LL, v, fs, w => RowsAt w v fs LL
theorem Kd.same (k : Kd) {v : Value} {fs : List Nat} {w w' : World} (h : k.at v fs w) (hs : ∀ b ∈ fs, w'.heap[b]? = w.heap[b]?) (hz : w.heap.size ≤ w'.heap.size) : k.at v fs w' := by
  cases k with
  | no => exact h
  | own l =>
    obtain ⟨h1, rfl⟩ := h
    exact ⟨h1.same hs, rfl⟩
  | rows LL => exact RowsAt.same h hs hz

theorem eval_tmp {a : Act} {t : Nat} {v : Value} (h : a.tmps[t]? = some v) : a.eval (.tmp t) = v := by
  simp [Act.eval, Array.getD_eq_getD_getElem?, h]

theorem lin_app {cons : Nat → List Nat} {Φ : Nat → Value → List Nat → World → Prop} {j : Nat} {o : Oper} {a : Act} {w : World} {f : Nat → List Nat} {Q : Exit → Act → World → Prop} (s x : Operand)
    (ho : o.op = .call { callee := .builtin .append, args := #[s, x], argTypes := #[31, 31] }) {v : Value} {A : Option Addr} {n c : Nat} {l1 l2 : List UInt8} (hs : a.eval s = v) (hx : a.eval x = .slice A n c)
    (hown : Own w v l1) (hr : Rd w A c (bs l2)) (hn : n = l2.length) (hb : l1.length + n ≤ 1000) {i : Nat} (hi : i ∈ cons j) (hf : f i = vb v) (hΦ : ∀ v' w', Own w' v' (l1 ++ l2) → Φ j v' (vb v') w') :
    Oper.wp Tryz.prog o a w (LinP cons Φ j o a w f) Q := by
  obtain ⟨v', w', hrun, hown', hgr, hblk⟩ := elB.app w o.type (m := n) hown hr (by rw [bs_len]; exact hn) (one_bs l2) (by omega) (by decide) (Nat.zero_le _)
  rw [← bs_append] at hown'
  have hO : Own w' v' (l1 ++ l2) := by unfold Own; rw [List.length_append, ← hn]; exact hown'
  refine wp_app s x _ ho hs hx hrun ⟨v', vb v', rfl, hΦ v' w' hO, fun b hb => ⟨hO.lt b hb, ?_⟩, hgr.os, hgr.tape, hgr.output, hgr.size, fun k hk hn => hgr.block k hk (fun e => hn ⟨i, hi, by rw [hf]; exact mem_vb.2 e.symm⟩)⟩
  have hb := mem_vb.1 hb
  rcases hblk with e | e
  · exact .inr ⟨i, hi, by rw [hf]; exact mem_vb.2 (by rw [← e]; exact hb)⟩
  · rw [e] at hb; injection hb with e; exact .inl (by omega)

theorem lin_rows {cons : Nat → List Nat} {Φ : Nat → Value → List Nat → World → Prop} {j : Nat} {o : Oper} {a : Act} {w : World} {f : Nat → List Nat} {Q : Exit → Act → World → Prop} (s x : Operand)
    (ho : o.op = .call { callee := .builtin .append, args := #[s, x], argTypes := #[22, 22] }) {v y : Value} {fs fsN : List Nat} {LL LN : List (List UInt8)} (hs : a.eval s = v) (hx : a.eval x = y)
    (h : RowsAt w v fs LL) (hN : RowsAt w y fsN LN) (hb : LL.length + LN.length ≤ 10000) {i i' : Nat} (hi : i ∈ cons j) (hf : f i = fs) (hi' : i' ∈ cons j) (hf' : f i' = fsN) (hd : ∀ b ∈ fsN, b ∉ fs) (hΦ : ∀ v' fs' w', RowsAt w' v' fs' (LL ++ LN) → Φ j v' fs' w') :
    Oper.wp Tryz.prog o a w (LinP cons Φ j o a w f) Q := by
  obtain ⟨vs, ins, h1, h2, h3, h4, rfl, h6⟩ := hN
  obtain ⟨A, c, rfl, hr⟩ := own_rd h2
  obtain ⟨v', w', fs', hrun, hrows, hfx, hfs⟩ := h.app o.type (m := LN.length) (insN := ins) hr rfl h1 h3 (fun b hb => ⟨h6 b (List.mem_append_right _ hb), hd b (List.mem_append_right _ hb)⟩) (by omega)
  refine wp_app s x _ ho hs hx hrun ⟨v', fs', rfl, hΦ v' fs' w' hrows, fun b hb => ⟨hrows.lt b hb, ?_⟩, hfx.os, hfx.tape, hfx.output, hfx.size, fun k hk hn => hfx.block k hk (fun hm => hn ⟨i, hi, by rw [hf]; exact hm⟩)⟩
  rcases hfs b hb with h | h | h
  · exact .inr ⟨i, hi, by rw [hf]; exact h⟩
  · exact .inr ⟨i', hi', by rw [hf']; exact List.mem_append_right _ h⟩
  · exact .inl h

/-- The value of a literal of bytes. -/
theorem lin_lit {cons : Nat → List Nat} {Φ : Nat → Value → List Nat → World → Prop} {j : Nat} {o : Oper} {a : Act} {w : World} {f : Nat → List Nat} (cs : List UInt8) (n : Nat) (hn : n = cs.length) (hΦ : ∀ v' w', Own w' v' cs → Φ j v' (vb v') w') (arr : Array Value) (harr : arr.toList = bs cs) (hm : n ≤ 1000) :
    LinP cons Φ j o a w f (a.put o.dst (.slice (some ⟨w.heap.size, 0, none⟩) n n)) (w.alloc (.cells arr 5)) := by
  subst hn
  have hO : Own (w.alloc (.cells arr 5)) (.slice (some ⟨w.heap.size, 0, none⟩) cs.length cs.length) cs := by
    refine ⟨by rw [bs_len, Nat.mul_one], .inr ⟨_, _, arr, rfl, Nat.zero_le _, heap_alloc_new w _, Nat.le_refl _, by unfold maxLen; omega, ?_, ?_⟩⟩
    · rw [← Array.length_toList, harr, bs_len, Nat.mul_one]
    · rw [harr, Nat.mul_one, List.take_of_length_le (by rw [bs_len]; exact Nat.le_refl _)]
  refine ⟨_, _, rfl, hΦ _ _ hO, fun b hb => ⟨hO.lt b hb, .inl ?_⟩, Fx.of_up ((Up.refl w).alloc _)⟩
  have e : w.heap.size = b := Option.some.inj (mem_vb.1 hb)
  omega

/-- The value of a literal of three rows. -/
theorem lin_three {cons : Nat → List Nat} {Φ : Nat → Value → List Nat → World → Prop} {j : Nat} {o : Oper} {a : Act} {w : World} {f : Nat → List Nat} {v1 v2 v3 : Value} {l1 l2 l3 : List UInt8} (h1 : Own w v1 l1) (h2 : Own w v2 l2) (h3 : Own w v3 l3)
    {i1 i2 i3 : Nat} (m1 : i1 ∈ cons j) (m2 : i2 ∈ cons j) (m3 : i3 ∈ cons j) (e1 : f i1 = vb v1) (e2 : f i2 = vb v2) (e3 : f i3 = vb v3) (hΦ : ∀ v' fs' w', RowsAt w' v' fs' [l1, l2, l3] → Φ j v' fs' w') :
    LinP cons Φ j o a w f (a.put o.dst (.slice (some ⟨w.heap.size, 0, none⟩) 3 3)) (w.alloc (.cells #[v1, v2, v3] 31)) := by
  have hlt : ∀ b ∈ vb v1 ++ (vb v2 ++ vb v3), b < w.heap.size := fun b hb => by
    rcases List.mem_append.1 hb with hb | hb
    · exact h1.lt b hb
    · rcases List.mem_append.1 hb with hb | hb
      · exact h2.lt b hb
      · exact h3.lt b hb
  have hvb : vb (.slice (some ⟨w.heap.size, 0, none⟩) 3 3) = [w.heap.size] := rfl
  have hR : RowsAt (w.alloc (.cells #[v1, v2, v3] 31)) (.slice (some ⟨w.heap.size, 0, none⟩) 3 3) (vb (.slice (some ⟨w.heap.size, 0, none⟩) 3 3) ++ (vb v1 ++ (vb v2 ++ vb v3))) [l1, l2, l3] := by
    refine ⟨[v1, v2, v3], vb v1 ++ (vb v2 ++ vb v3), rfl, ⟨rfl, .inr ⟨_, _, #[v1, v2, v3], rfl, Nat.zero_le _, heap_alloc_new w _, Nat.le_refl _, by unfold maxLen; decide, rfl, rfl⟩⟩, fun i hi => ?_, fun b hb hn => ?_, rfl, fun b hb => ?_⟩
    · match i, hi with
      | 0, _ => exact ⟨v1, rfl, h1.alloc _, fun b hb => List.mem_append_left _ hb⟩
      | 1, _ => exact ⟨v2, rfl, h2.alloc _, fun b hb => List.mem_append_right _ (List.mem_append_left _ hb)⟩
      | 2, _ => exact ⟨v3, rfl, h3.alloc _, fun b hb => List.mem_append_right _ (List.mem_append_right _ hb)⟩
    · rw [hvb] at hb
      have := hlt b hn
      simp at hb; omega
    · rw [hvb] at hb
      have hz : (w.alloc (.cells #[v1, v2, v3] 31)).heap.size = w.heap.size + 1 := by simp
      rcases List.mem_append.1 hb with hb | hb
      · simp at hb; omega
      · have := hlt b hb; omega
  refine ⟨_, _, rfl, hΦ _ _ _ hR, fun b hb => ⟨hR.lt b hb, ?_⟩, Fx.of_up ((Up.refl w).alloc _)⟩
  rw [hvb] at hb
  rcases List.mem_append.1 hb with hb | hb
  · simp at hb; exact .inl (by omega)
  · rcases List.mem_append.1 hb with hb | hb
    · exact .inr ⟨i1, m1, by rw [e1]; exact hb⟩
    · rcases List.mem_append.1 hb with hb | hb
      · exact .inr ⟨i2, m2, by rw [e2]; exact hb⟩
      · exact .inr ⟨i3, m3, by rw [e3]; exact hb⟩

end Go.Proofs.YtipemmjbgegmfaaGreatDoor
