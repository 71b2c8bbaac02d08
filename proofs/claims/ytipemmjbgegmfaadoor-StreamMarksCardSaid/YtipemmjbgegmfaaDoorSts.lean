/- A mark that was kept, beside two rows of the call's own; what a stream from a mark tells. -/
import Derived.Test.YtipemmjbgegmfaaDoorStr
namespace Go.Proofs.YtipemmjbgegmfaaDoor
open Go.RowKit Go.Proofs.YtipemmjbgegmfaaDoor.Ordr Go.Proofs.YtipemmjbgegmfaaDoor.Cmpr

/-- append to the first one; what else may have turned. -/
theorem Two.push2 {W : World} {X : Nat → Prop} {wr : World} {v1 : Value} {n1 : Nat} {T : List UInt8} {v2 : Value} {n2 : Nat} {U : List UInt8} (h : Two W X wr v1 n1 T v2 n2 U) (hu : Up W wr) (hX : ∀ b, X b → b < wr.heap.size) {A : Option Addr} {m c : Nat} {ys : List UInt8} (hr : Rd wr A c (bs ys)) (hm : m = ys.length) (hb : n1 + m ≤ 1000000) :
    ∃ B d w', (Builtin.append_ #[30, 30] 30 #[v1, .slice A m c]).run Tryd.prog wr = .ok (.slice B (n1 + m) d) w' ∧ Two W X w' (.slice B (n1 + m) d) (n1 + m) (T ++ ys) v2 n2 U ∧ Up W w' ∧ ∃ Y, Fx Y wr w' ∧ (∀ b, X b → ¬ Y b) ∧ ∀ b, b < wr.heap.size → v1.ownBlock ≠ some b → ¬ Y b ∧ (Value.slice B (n1 + m) d).ownBlock ≠ some b := by
  obtain ⟨v', w4, hap, hown4, hg, ho⟩ := elB.app (m := m) wr 30 h.one hr (by rw [bs_len]; exact hm) (one_bs ys) (by omega) (by omega) hu.size
  rw [show bs T ++ bs ys = bs (T ++ ys) from by unfold bs; rw [List.map_append]] at hown4
  have hf : Fx (fun b => v1.ownBlock = some b) wr w4 := ⟨hg.os, hg.tape, hg.output, hg.size, fun i hi hn => hg.block i hi (fun e => hn e.symm)⟩
  have hu4 : Up W w4 := hu.own hg (fun g hg => (h.one.lt g hg).1)
  have h2 := own_fx h.two hf (fun b hb hx => h.apart b hx hb)
  have hof : Off X v' := fun b hb hx => by
    rcases ho with h3 | h3
    · rw [h3] at hb; exact h.off1 b hb hx
    · rw [h3] at hb
      injection hb with e
      have := hX b hx
      omega
  have hap2 : ∀ b, v'.ownBlock = some b → v2.ownBlock ≠ some b := fun b hb hx => by
    rcases ho with h3 | h3
    · rw [h3] at hb; exact h.apart b hb hx
    · rw [h3] at hb
      injection hb with e
      have := (h.two.lt b hx).2
      omega
  obtain ⟨B, d, rfl, _⟩ := own_rd hown4
  refine ⟨B, d, w4, hap, ⟨hown4, h2, hof, h.off2, hap2, by rw [List.length_append, h.len1, hm], h.len2⟩, hu4, _, hf, fun b hx hy => h.off1 b hy hx, fun b hb hn => ⟨hn, fun e => ?_⟩⟩
  rcases ho with h3 | h3
  · rw [h3] at e; exact hn e
  · rw [h3] at e
    injection e with e
    omega

/-- 'b[k:]', its length by name. -/
theorem Rd.tailX {w : World} {A : Option Addr} {c : Nat} {l : List UInt8} (h : Rd w A c (bs l)) (n k : Nat) (hn : n = l.length) (hk : k ≤ l.length) :
    ∃ A' m c', (∀ w', (Instr.slice 30 (.slice A n c) (some (.int .i64 k)) none none).run Tryd.prog w' = .ok (.slice A' m c') w') ∧ m = (l.drop k).length ∧ Rd w A' c' (bs (l.drop k)) := by
  obtain ⟨A', h1, h2⟩ := h.tail n k hn (by omega)
  exact ⟨A', n - k, c - k, h1, by rw [List.length_drop, hn], h2⟩

/-- A mark of the call's own. -/
structure Mb (W : World) (X : Nat → Prop) (w : World) (mb : Nat) (v1 v2 : Value) (a b c d : Value) : Prop where
  obj : w.heap[mb]? = some (.cells #[a, b, c, d] 44 (0, 0))
  lo : W.heap.size ≤ mb
  off : ¬ X mb
  off1 : v1.ownBlock ≠ some mb
  off2 : v2.ownBlock ≠ some mb
theorem Mb.up {W : World} {X : Nat → Prop} {w w' : World} {mb : Nat} {v1 v2 a b c d : Value} (h : Mb W X w mb v1 v2 a b c d) (u : Up w w') : Mb W X w' mb v1 v2 a b c d :=
  ⟨obj_up h.obj u, h.lo, h.off, h.off1, h.off2⟩
theorem Mb.swap {W : World} {X : Nat → Prop} {w : World} {mb : Nat} {v1 v2 a b c d : Value} (h : Mb W X w mb v1 v2 a b c d) : Mb W X w mb v2 v1 a b c d :=
  ⟨h.obj, h.lo, h.off, h.off2, h.off1⟩
theorem Mb.call {W : World} {X X' : Nat → Prop} {w w' : World} {mb : Nat} {v1 v2 a b c d : Value} (h : Mb W X w mb v1 v2 a b c d) (hf : Fx X w w') (hX : ∀ k, X' k → X k ∨ w.heap.size ≤ k) : Mb W X' w' mb v1 v2 a b c d :=
  ⟨obj_fx h.obj hf h.off, h.lo, fun hx => by
    have := obj_lt h.obj
    rcases hX mb hx with h1 | h1
    · exact h.off h1
    · omega, h.off1, h.off2⟩
theorem Mb.push {W : World} {X Y : Nat → Prop} {w w' : World} {mb : Nat} {v1 v1' v2 a b c d : Value} (h : Mb W X w mb v1 v2 a b c d) (hf : Fx Y w w') (hY : ∀ b, b < w.heap.size → v1.ownBlock ≠ some b → ¬ Y b ∧ v1'.ownBlock ≠ some b) : Mb W X w' mb v1' v2 a b c d :=
  ⟨obj_fx h.obj hf (hY mb (obj_lt h.obj) h.off1).1, h.lo, h.off, (hY mb (obj_lt h.obj) h.off1).2, h.off2⟩

/-- The mark that was kept at the k-th piece. -/
def Marked (Tk T : List UInt8) (ah : Nat) (a b c d : Value) : Prop :=
  ∃ (s : SS) (U r D : List UInt8) (cs : List Nat), Went SS.new Tk U cs r s ∧ T = Tk ++ D ∧ ah = U.length ∧ a = .int .i64 (s.inn : Int) ∧ b = .int .i64 (s.out : Int) ∧ c = .int .u32 (s.sin : Int) ∧ d = .int .u32 (s.sout : Int)
theorem Marked.more {Tk T : List UInt8} {ah : Nat} {a b c d : Value} (h : Marked Tk T ah a b c d) (ys : List UInt8) : Marked Tk (T ++ ys) ah a b c d := by
  obtain ⟨s, U, r, D, cs, h1, h2, h3⟩ := h
  exact ⟨s, U, r, D ++ ys, cs, h1, by rw [h2, List.append_assoc], h3⟩

/-- A stream from a mark. -/
def SS.at (s : SS) : SS := ⟨s.inn, s.out, s.sin, s.sout, [], 0⟩
/-- What was kept, as numbers. -/
theorem Marked.nums {Tk T : List UInt8} {ah : Nat} {a b c d : Value} (h : Marked Tk T ah a b c d) (hT : T.length ≤ 600) :
    ∃ (s : SS) (U r D : List UInt8) (cs : List Nat), Went SS.new Tk U cs r s ∧ T = Tk ++ D ∧ ah = s.out ∧ .agg #[a, b, c, d] = aggM s.at ∧ a = .int .i64 (s.inn : Int) ∧ b = .int .i64 (s.out : Int) ∧ c = .int .u32 (s.sin : Int) ∧ d = .int .u32 (s.sout : Int) ∧ s.inn ≤ T.length ∧ s.at.Ok 0 ∧ s.out ≤ 9600 ∧ (s.inn = 0 → s.out = 0 ∧ s.sin = 0 ∧ s.sout = 0) := by
  obtain ⟨s, U, r, D, cs, h1, h2, h3, rfl, rfl, rfl, rfl⟩ := h
  have h4 := txt_len (Go.Proofs.YtipemmjbgegmfaaDoor.U.encs cs)
  rw [txt_encs h1.cps, ← h1.told] at h4
  have h5 := h1.minn
  have h6 := h1.mout
  have h7 : (Go.Proofs.YtipemmjbgegmfaaDoor.U.encs cs).length ≤ Tk.length := by rw [h1.all, List.length_append]; omega
  have h8 : Tk.length ≤ T.length := by rw [h2, List.length_append]; omega
  have z1 : SS.new.inn = 0 := rfl
  have z2 : SS.new.out = 0 := rfl
  refine ⟨s, U, r, D, cs, h1, h2, by omega, rfl, rfl, rfl, rfl, rfl, by omega, ⟨Nat.zero_le _, ?_, ?_, ?_, ?_, .inl rfl⟩, by omega, fun h0 => ?_⟩
  · show s.inn + 0 ≤ _; omega
  · show s.out + 16 * 0 ≤ _; omega
  · show s.sin < _; rw [h1.msin]; exact crcOn_lt (by decide) _
  · show s.sout < _; rw [h1.msout]; exact crcOn_lt (by decide) _
  · have h9 : Go.Proofs.YtipemmjbgegmfaaDoor.U.encs cs = [] := List.eq_nil_of_length_eq_zero (by omega)
    have ha : U = [] := List.eq_nil_of_length_eq_zero (by rw [h9] at h4; simpa using h4)
    refine ⟨by rw [h6, ha]; rfl, ?_, ?_⟩
    · rw [h1.msin, h9]; exact crcOn_nil 0
    · rw [h1.msout, ha]; exact crcOn_nil 0

/-- What a stream from a mark tells of what stands behind it, in two pieces. -/
theorem marks_vals {s sk : SS} {Tk T D Uk V r rk : List UInt8} {cs csk : List Nat} (hk : Went SS.new Tk Uk csk rk sk) (hT : T = Tk ++ D) (h : Went SS.new T V cs r s) (p q : List UInt8) (hpq : T.drop sk.inn = p ++ q) :
    (s.fin.err = 6 ∧ ((sk.at.write p).write q).fin.err = 6) ∨
    (s.fin.err = 0 ∧ ((sk.at.write p).write q).fin.err = 0 ∧ sk.at.told p ++ (sk.at.write p).told q ++ ((sk.at.write p).write q).last = (V ++ s.last).drop sk.out ∧ aggM ((sk.at.write p).write q).fin = aggM s.fin ∧ sk.out ≤ (V ++ s.last).length) := by
  have z1 : SS.new.inn = 0 := rfl
  have z2 : SS.new.out = 0 := rfl
  have hin := hk.minn
  rw [z1, Nat.zero_add] at hin
  have hout := hk.mout
  rw [z2, Nat.zero_add] at hout
  have hTe : T = Go.Proofs.YtipemmjbgegmfaaDoor.U.encs csk ++ (rk ++ D) := by rw [hT, hk.all, List.append_assoc]
  have hrest : T.drop sk.inn = rk ++ D := by rw [hin, hTe, List.drop_left]
  obtain ⟨c1, r1, w1⟩ := (Went.new sk.at rfl rfl).write p
  obtain ⟨c2, r2, w2⟩ := w1.write q
  rw [List.nil_append, ← hpq, hrest] at w2
  have hfa := Go.Proofs.YtipemmjbgegmfaaDoor.U.fault_append (Go.Proofs.YtipemmjbgegmfaaDoor.U.encs csk) (rk ++ D)
  rw [← hTe] at hfa
  have hfe := Go.Proofs.YtipemmjbgegmfaaDoor.U.fault_encs hk.cps
  by_cases hf : Go.Proofs.YtipemmjbgegmfaaDoor.U.fault (rk ++ D) < 0
  · obtain ⟨l', hl', hr', he', ho', hs'⟩ := w2.fin.1 hf
    obtain ⟨l, hl, hal, he, ho, hs⟩ := h.fin.1 (by have := hfa.1 (by omega) hf; omega)
    have hll : l = csk ++ l' := Go.Proofs.YtipemmjbgegmfaaDoor.U.encs_inj hl (hk.cps.append hl') (by rw [← hal, hTe, hr', Go.Proofs.YtipemmjbgegmfaaDoor.U.encs_append])
    have hst : csk = [] ∨ Starts (Go.Proofs.YtipemmjbgegmfaaDoor.U.encs l' ++ []) := by
      rw [List.append_nil, ← hr']
      rcases hk.cut with h1 | h1
      · exact .inl h1
      · exact .inr (starts_app h1 D)
    have hn : nfcL l = nfcL csk ++ nfcL l' := by rw [hll]; exact nfc_cut hl' hst (.inr rfl)
    have hV : V ++ s.last = Uk ++ (sk.at.told p ++ (sk.at.write p).told q ++ ((sk.at.write p).write q).last) := by
      rw [ho, hn, Go.Proofs.YtipemmjbgegmfaaDoor.U.encs_append, ← hk.told]
      congr 1
      rw [← ho']
      rfl
    refine .inr ⟨he, he', ?_, ?_, ?_⟩
    · rw [hV, hout, List.drop_left]
    · rw [hs', hs, hV]
      unfold aggM
      have e1 : sk.at.inn + (rk ++ D).length = SS.new.inn + T.length := by
        show sk.inn + (rk ++ D).length = SS.new.inn + T.length
        have := congrArg List.length hTe
        rw [List.length_append] at this
        omega
      have e2 : sk.at.out + (([] : List UInt8) ++ sk.at.told p ++ (sk.at.write p).told q ++ ((sk.at.write p).write q).last).length = SS.new.out + (Uk ++ (sk.at.told p ++ (sk.at.write p).told q ++ ((sk.at.write p).write q).last)).length := by
        show sk.out + _ = _
        rw [hout, z2, List.nil_append]
        simp only [List.length_append]; omega
      have e3 : crcOn sk.at.sin (rk ++ D) = crcOn SS.new.sin T := by
        show crcOn sk.sin _ = _
        rw [hk.msin, hTe]
        exact (crcOn_append _ _ _).symm
      have e4 : crcOn sk.at.sout (([] : List UInt8) ++ sk.at.told p ++ (sk.at.write p).told q ++ ((sk.at.write p).write q).last) = crcOn SS.new.sout (Uk ++ (sk.at.told p ++ (sk.at.write p).told q ++ ((sk.at.write p).write q).last)) := by
        show crcOn sk.sout _ = _
        rw [hk.msout, List.nil_append, ← crcOn_append]
      rw [e1, e2, e3, e4]
    · rw [hV, hout, List.length_append]; omega
  · refine .inl ⟨(h.fin.2 ?_).1, (w2.fin.2 (by omega)).1⟩
    have := hfa.2.1 (by omega) (by omega)
    omega

end Go.Proofs.YtipemmjbgegmfaaDoor
