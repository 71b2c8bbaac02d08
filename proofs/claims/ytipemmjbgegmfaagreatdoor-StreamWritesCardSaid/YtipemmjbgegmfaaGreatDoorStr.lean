/- Two rows of the call's own beside a stream; what is told of all. -/
import Derived.Test.YtipemmjbgegmfaaGreatDoorSth
import Derived.Deep.WholeRow
namespace Go.Proofs.YtipemmjbgegmfaaGreatDoor
open Go.RowKit Go.Proofs.YtipemmjbgegmfaaGreatDoor.Ordr Go.Proofs.YtipemmjbgegmfaaGreatDoor.Cmpr

def TextOk (G : World → Prop) : Prop := ∀ (A : Option Addr) (n d : Nat) (l : List UInt8) (w : World), G w → Rd w A d (bs l) → n = l.length → n ≤ 4000 → Calls Tryz.prog 25 #[.slice A n d] w (TextP l w)
theorem loadM {w : World} {g : Nat} {a b c d : Value} {t : TypeId} {fr : Nat × Nat} (hg : w.heap[g]? = some (.cells #[a, b, c, d] t fr)) : (Instr.loadAt 30 (.pointer (some ⟨g, 0, none⟩))).run Tryz.prog w = .ok (.agg #[a, b, c, d]) w := by
  have := run_loadVar_row (P := Tryz.prog) w g t 30 #[a, b, c, d] fr _ hg Tryz.underlying30 rfl (by kernel_rfl)
  simp only [Instr.loadAt, Instr.sureAddr, Sem.run_bind, Sem.run_pure, Result.andThen]
  exact this

/-- Two rows of the call's own, beside a stream in blocks X. -/
structure Two (W : World) (X : Nat → Prop) (wr : World) (v1 : Value) (n1 : Nat) (T : List UInt8) (v2 : Value) (n2 : Nat) (U : List UInt8) : Prop where
  one : wr.ownsRow W.heap.size 5 1 v1 n1 (bs T)
  two : wr.ownsRow W.heap.size 5 1 v2 n2 (bs U)
  off1 : Off X v1
  off2 : Off X v2
  apart : ∀ b, v1.ownBlock = some b → v2.ownBlock ≠ some b
  len1 : n1 = T.length
  len2 : n2 = U.length
theorem Two.new (W : World) (X : Nat → Prop) (wr : World) : Two W X wr (.slice none 0 0) 0 [] (.slice none 0 0) 0 [] :=
  ⟨World.ownsRow_nil _ _ _ _, World.ownsRow_nil _ _ _ _, (fun b hb => by cases hb), (fun b hb => by cases hb), (fun b hb => by cases hb), rfl, rfl⟩
theorem Two.swap {W : World} {X : Nat → Prop} {wr : World} {v1 : Value} {n1 : Nat} {T : List UInt8} {v2 : Value} {n2 : Nat} {U : List UInt8} (h : Two W X wr v1 n1 T v2 n2 U) : Two W X wr v2 n2 U v1 n1 T :=
  ⟨h.two, h.one, h.off2, h.off1, fun b h2 h1 => h.apart b h1 h2, h.len2, h.len1⟩
theorem Two.up {W : World} {X : Nat → Prop} {wr w' : World} {v1 : Value} {n1 : Nat} {T : List UInt8} {v2 : Value} {n2 : Nat} {U : List UInt8} (h : Two W X wr v1 n1 T v2 n2 U) (u : Up wr w') : Two W X w' v1 n1 T v2 n2 U :=
  ⟨own_up h.one u, own_up h.two u, h.off1, h.off2, h.apart, h.len1, h.len2⟩
/-- Behind a call of the stream. -/
theorem Two.call {W : World} {X X' : Nat → Prop} {wr w' : World} {v1 : Value} {n1 : Nat} {T : List UInt8} {v2 : Value} {n2 : Nat} {U : List UInt8} (h : Two W X wr v1 n1 T v2 n2 U) (hf : Fx X wr w') (hX : ∀ k, X' k → X k ∨ wr.heap.size ≤ k) : Two W X' w' v1 n1 T v2 n2 U :=
  ⟨own_fx h.one hf h.off1, own_fx h.two hf h.off2, h.off1.step h.one hX, h.off2.step h.two hX, h.apart, h.len1, h.len2⟩
/-- append to the first one. -/
theorem Two.push {W : World} {X : Nat → Prop} {wr : World} {v1 : Value} {n1 : Nat} {T : List UInt8} {v2 : Value} {n2 : Nat} {U : List UInt8} (h : Two W X wr v1 n1 T v2 n2 U) (hu : Up W wr) (hX : ∀ b, X b → b < wr.heap.size) {A : Option Addr} {m c : Nat} {ys : List UInt8} (hr : Rd wr A c (bs ys)) (hm : m = ys.length) (hb : n1 + m ≤ 1000000) :
    ∃ B d w', (Builtin.append_ #[31, 31] 31 #[v1, .slice A m c]).run Tryz.prog wr = .ok (.slice B (n1 + m) d) w' ∧ Two W X w' (.slice B (n1 + m) d) (n1 + m) (T ++ ys) v2 n2 U ∧ Up W w' ∧ ∃ Y, Fx Y wr w' ∧ ∀ b, X b → ¬ Y b := by
  obtain ⟨v', w4, hap, hown4, hg, ho⟩ := elB.app (m := m) wr 31 h.one hr (by rw [bs_len]; exact hm) (one_bs ys) (by omega) (by omega) hu.size
  rw [show bs T ++ bs ys = bs (T ++ ys) from by unfold bs; rw [List.map_append]] at hown4
  have hf : Fx (fun b => v1.ownBlock = some b) wr w4 := ⟨hg.os, hg.tape, hg.output, hg.size, fun i hi hn => hg.block i hi (fun e => hn e.symm)⟩
  have hu4 : Up W w4 := hu.own hg (fun g hg => (h.one.lt g hg).1)
  have h2 := own_fx h.two hf (fun b hb hx => h.apart b hx hb)
  have hof : Off X v' := fun b hb hx => by
    rcases ho with h3 | h3
    · rw [h3] at hb; exact h.off1 b hb hx
    · rw [h3] at hb
      injection hb with e
      have := hX b hx
      omega
  have hap2 : ∀ b, v'.ownBlock = some b → v2.ownBlock ≠ some b := fun b hb hx => by
    rcases ho with h3 | h3
    · rw [h3] at hb; exact h.apart b hb hx
    · rw [h3] at hb
      injection hb with e
      have := (h.two.lt b hx).2
      omega
  obtain ⟨B, d, rfl, _⟩ := own_rd hown4
  exact ⟨B, d, w4, hap, ⟨hown4, h2, hof, h.off2, hap2, by rw [List.length_append, h.len1, hm], h.len2⟩, hu4, _, hf, fun b hx hy => h.off1 b hy hx⟩

/-- What is told of all at the end. -/
theorem whole_vals {s : SS} {all out r : List UInt8} {cs : List Nat} (h : Went SS.new all out cs r s) :
    (∃ l, U.Cps l ∧ all = U.encs l ∧ s.err = 0 ∧ s.fin.err = 0 ∧ out ++ s.last = U.encs (nfcL l) ∧ aggM s.fin = .agg #[.int .i64 (all.length : Int), .int .i64 ((out ++ s.last).length : Int), .int .u32 (crcOf all : Int), .int .u32 (crcOf (out ++ s.last) : Int)]) ∨
    (0 ≤ U.fault all ∧ s.fin.err = 6 ∧ s.fin.held = [] ∧ s.last = [] ∧ s.fin.out = out.length ∧ s.fin.sout = crcOf out) := by
  obtain ⟨h1, h2⟩ := h.fin
  by_cases hf : U.fault all < 0
  · obtain ⟨l, hl, hal, he, ho, hs⟩ := h1 hf
    refine .inl ⟨l, hl, hal, ?_, he, ho, ?_⟩
    · by_cases he2 : s.err ≠ 0
      · rw [(SS.fin_err he2).1] at he; exact he
      · omega
    · rw [hs]
      unfold aggM crcOf
      show (Value.agg #[.int .i64 ((0 + all.length : Nat) : Int), .int .i64 ((0 + (out ++ s.last).length : Nat) : Int), .int .u32 (crcOn 0 all : Int), .int .u32 (crcOn 0 (out ++ s.last) : Int)]) = _
      rw [Nat.zero_add, Nat.zero_add]
  · obtain ⟨h3, h4, h5, h6, h7, h8, h9⟩ := h2 (by omega)
    refine .inr ⟨by omega, h3, h4, h5, ?_, ?_⟩
    · rw [h7, h.mout]; exact Nat.zero_add _
    · rw [h9, h.msout]; rfl
/-- What was told so far is short. -/
theorem txt_told_len {s : SS} {q : Nat} {all out r : List UInt8} {cs : List Nat} (h : Went SS.new all out cs r s) (_ : s.Ok q) (b : List UInt8) : (out ++ s.told b).length ≤ 16 * (all ++ b).length := by
  obtain ⟨cs', r', h9⟩ := h.write b
  rw [h9.told, h9.all, List.length_append]
  have h1 := txt_len (U.encs cs')
  rw [txt_encs h9.cps] at h1
  omega
theorem last_len {s : SS} {all out r : List UInt8} {cs : List Nat} (h : Went SS.new all out cs r s) : (out ++ s.last).length ≤ 16 * all.length := by
  rcases whole_vals h with ⟨l, hl, rfl, _, _, ho, _⟩ | ⟨_, _, _, hl, _⟩
  · have h1 := txt_len (U.encs l)
    rw [txt_encs hl] at h1
    rw [ho]
    exact h1
  · rw [hl, List.append_nil, h.told, h.all, List.length_append]
    have h1 := txt_len (U.encs cs)
    rw [txt_encs h.cps] at h1
    omega
theorem fin_six {s : SS} (h : s.err = 6) : s.fin.err = 6 := by rw [(SS.fin_err (by omega)).1]; exact h
theorem write_six {s : SS} (h : s.err = 6) (b : List UInt8) : (s.write b).err = 6 := by rw [(SS.write_err (by omega) b).1]; exact h

end Go.Proofs.YtipemmjbgegmfaaGreatDoor
