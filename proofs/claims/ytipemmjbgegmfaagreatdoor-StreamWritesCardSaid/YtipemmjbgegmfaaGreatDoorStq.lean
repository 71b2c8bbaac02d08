/- What is asked of the program's stream; frames; the pieces are few; the closed case of stage 10. -/
import Derived.Test.YtipemmjbgegmfaaGreatDoorStp
import Derived.Test.YtipemmjbgegmfaaGreatDoorSuh
import Derived.Test.YtipemmjbgegmfaaGreatDoorSca
import Derived.Test.YtipemmjbgegmfaaGreatDoorNra
import Derived.Laws.StructEq
namespace Go.Proofs.YtipemmjbgegmfaaGreatDoor
open Go.RowKit Go.Proofs.YtipemmjbgegmfaaGreatDoor.Ordr Go.Proofs.YtipemmjbgegmfaaGreatDoor.Cmpr

/-! ### Frames -/
/-- A value's own block is none of these. -/
def Off (X : Nat → Prop) (v : Value) : Prop := ∀ b, v.ownBlock = some b → ¬ X b
theorem own_fx {X : Nat → Prop} {w w' : World} {base : Nat} {e : TypeId} {size : Nat} {v : Value} {n : Nat} {xs : List Value} (h : w.ownsRow base e size v n xs) (hf : Fx X w w') (ho : Off X v) : w'.ownsRow base e size v n xs := by
  refine ⟨h.1, ?_⟩
  rcases h.2 with hn | ⟨b, cap, cur, rfl, hb, hgg, rest⟩
  · exact .inl hn
  · exact .inr ⟨b, cap, cur, rfl, hb, (hf.block b (obj_lt hgg) (ho b rfl)).trans hgg, rest⟩
theorem obj_fx {X : Nat → Prop} {w w' : World} {g : Nat} {o : Obj} (h : w.heap[g]? = some o) (hf : Fx X w w') (hg : ¬ X g) : w'.heap[g]? = some o := (hf.block g (obj_lt h) hg).trans h
theorem Up.fx {X : Nat → Prop} {a b c : World} (h : Up a b) (h2 : Fx X b c) (hX : ∀ k, X k → a.heap.size ≤ k) : Up a c :=
  ⟨h2.os.trans h.os, h2.tape.trans h.tape, h2.output.trans h.output, Nat.le_trans h.size h2.size, fun i hi => by
    have := h.size
    rw [h2.block i (by omega) (fun hx => by have := hX i hx; omega)]; exact h.block i hi⟩
theorem Off.own {X : Nat → Prop} {w : World} {base : Nat} {e : TypeId} {size : Nat} {v : Value} {n : Nat} {xs : List Value} (h : w.ownsRow base e size v n xs) (hX : ∀ k, X k → k < base) : Off X v := fun b hb hx => by
  have := (h.lt b hb).1
  have := hX b hx
  omega
/-- What is none of the stream's blocks is none behind a call. -/
theorem Off.step {X X' : Nat → Prop} {w : World} {base : Nat} {e : TypeId} {size : Nat} {v : Value} {n : Nat} {xs : List Value} (h : Off X v) (ho : w.ownsRow base e size v n xs) (hX : ∀ k, X' k → X k ∨ w.heap.size ≤ k) : Off X' v := fun b hb hx => by
  have h1 := (ho.lt b hb).2
  rcases hX b hx with h2 | h2
  · exact h b hb h2
  · omega

/-! ### What is asked of the program's stream -/
def aggM (s : SS) : Value := .agg #[.int .i64 (s.inn : Int), .int .i64 (s.out : Int), .int .u32 (s.sin : Int), .int .u32 (s.sout : Int)]
/-- A field of a mark that is at hand. -/
theorem mark_0 (a b c d : Value) (w : World) : (Instr.field 30 (.agg #[a, b, c, d]) 0).run Tryz.prog w = .ok a w := by kernel_rfl
theorem mark_1 (a b c d : Value) (w : World) : (Instr.field 30 (.agg #[a, b, c, d]) 1).run Tryz.prog w = .ok b w := by kernel_rfl
theorem mark_eq (a b c d x y z u : Int) (w : World) : (binOp .eql 30 (.agg #[.int .i64 a, .int .i64 b, .int .u32 c, .int .u32 d]) (.agg #[.int .i64 x, .int .i64 y, .int .u32 z, .int .u32 u])).run Tryz.prog w = .ok (.bool (a == x && b == y && c == z && d == u)) w := by
  have hf : (Tryz.prog.fieldsOf 30).toList.map (fun f => (f.name, f.type, f.offset)) = [("In", 3, 0), ("Out", 3, 1), ("SumIn", 28, 2), ("SumOut", 28, 3)] := by kernel_rfl
  rw [run_eql_struct, run_equalIn_agg _ _ _ _ _ (by kernel_rfl) (by kernel_rfl)]
  generalize (Tryz.prog.fieldsOf 30).toList = fs at *
  have p0 : ∀ (a b c d : Value) w, (part 3 #[a, b, c, d] 0).run Tryz.prog w = .ok a w := fun a b c d w => by kernel_rfl
  have p1 : ∀ (a b c d : Value) w, (part 3 #[a, b, c, d] 1).run Tryz.prog w = .ok b w := fun a b c d w => by kernel_rfl
  have p2 : ∀ (a b c d : Value) w, (part 28 #[a, b, c, d] 2).run Tryz.prog w = .ok c w := fun a b c d w => by kernel_rfl
  have p3 : ∀ (a b c d : Value) w, (part 28 #[a, b, c, d] 3).run Tryz.prog w = .ok d w := fun a b c d w => by kernel_rfl
  obtain ⟨f0, f1, f2, f3, rfl⟩ : ∃ f0 f1 f2 f3, fs = [f0, f1, f2, f3] := by
    have hl := congrArg List.length hf
    rw [List.length_map] at hl
    rcases fs with _ | ⟨f0, _ | ⟨f1, _ | ⟨f2, _ | ⟨f3, _ | ⟨f4, r⟩⟩⟩⟩⟩
    any_goals (simp at hl; done)
    exact ⟨_, _, _, _, rfl⟩
  simp only [List.map_cons, List.map_nil, List.cons.injEq, Prod.mk.injEq, and_true] at hf
  obtain ⟨⟨n0, t0, o0⟩, ⟨n1, t1, o1⟩, ⟨n2, t2, o2⟩, n3, t3, o3⟩ := hf
  have q0 : ∀ (a b : Int) w, (Op.equalIn 9999 3 (.int .i64 a) (.int .i64 b)).run Tryz.prog w = .ok (a == b) w := fun a b w => run_equalIn_int w 9998 3 .i64 .i64 a b Tryz.underlying3
  have q1 : ∀ (a b : Int) w, (Op.equalIn 9999 28 (.int .u32 a) (.int .u32 b)).run Tryz.prog w = .ok (a == b) w := fun a b w => run_equalIn_int w 9998 28 .u32 .u32 a b Tryz.underlying28
  simp only [Op.eqFields, n0, t0, o0, n1, t1, o1, n2, t2, o2, n3, t3, o3, ne_eq, String.reduceEq, not_false_eq_true, if_true, Sem.run_bind, p0, p1, p2, p3, q0, q1, Result.andThen_ok, Sem.run_ite, Sem.run_pure]
  cases a == x <;> cases b == y <;> cases c == z <;> cases d == u <;> rfl
/-- What a call that gives on leaves. -/
def Gave (Rep : (Nat → Prop) → World → Nat → SS → Prop) (X : Nat → Prop) (w : World) (g : Nat) (t : List UInt8) (s : SS) (e : Ending) (w' : World) : Prop :=
  ∃ X' B c, e = .returned (.tuple #[.slice B t.length c, .int .i64 (s.err : Int)]) ∧ w'.ownsRow w.heap.size 5 1 (.slice B t.length c) t.length (bs t) ∧ Off X' (.slice B t.length c) ∧ Rep X' w' g s ∧ Fx X w w' ∧ ∀ k, X' k → X k ∨ w.heap.size ≤ k

/-- What is asked of the package-level variables stays as it is. -/
def Ground (G : World → Prop) : Prop := ∀ w w', G w → Up w w' → G w'
/-- What the program's functions answer. G: what is asked of the package-level variables; Rep: how a stream is held (in blocks X, at block g). -/
structure StreamOk (G : World → Prop) (Rep : (Nat → Prop) → World → Nat → SS → Prop) : Prop where
  stay : ∀ (X Y : Nat → Prop) (w w' : World) (g : Nat) (s : SS), Rep X w g s → Fx Y w w' → (∀ b, X b → ¬ Y b) → Rep X w' g s
  lt : ∀ (X : Nat → Prop) (w : World) (g : Nat) (s : SS), Rep X w g s → ∀ b, X b → b < w.heap.size
  new : ∀ (w : World), G w → Calls Tryz.prog 7 #[] w fun e w' => ∃ X g, e = .returned (.pointer (some ⟨g, 0, none⟩)) ∧ Rep X w' g SS.new ∧ Up w w' ∧ ∀ k, X k → w.heap.size ≤ k
  from_ : ∀ (w : World) (s : SS), G w → s.Ok 0 → s.held = [] → s.err = 0 → s.out ≤ 1099511627776 → (s.inn = 0 → s.out = 0 ∧ s.sin = 0 ∧ s.sout = 0) → Calls Tryz.prog 13 #[aggM s] w fun e w' => ∃ X g, e = .returned (.tuple #[.pointer (some ⟨g, 0, none⟩), .int .i64 0]) ∧ Rep X w' g s ∧ Up w w' ∧ ∀ k, X k → w.heap.size ≤ k
  from_no : ∀ (w : World) (a b : Int) (c d : Nat), G w → ¬ (0 ≤ a ∧ 0 ≤ b ∧ a ≤ 1099511627776 ∧ b ≤ 1099511627776 ∧ (a = 0 → b = 0 ∧ c = 0 ∧ d = 0)) → c < 4294967296 → d < 4294967296 → -9223372036854775808 ≤ a → a ≤ 9223372036854775807 → -9223372036854775808 ≤ b → b ≤ 9223372036854775807 →
    Calls Tryz.prog 13 #[.agg #[.int .i64 a, .int .i64 b, .int .u32 (c : Int), .int .u32 (d : Int)]] w fun e w' => e = .returned (.tuple #[.pointer none, .int .i64 2]) ∧ Up w w'
  write : ∀ (X : Nat → Prop) (w : World) (g : Nat) (s : SS) (q : Nat) (A : Option Addr) (n d : Nat) (b : List UInt8), G w → Rep X w g s → s.Ok q → q + n ≤ 2000 → Rd w A d (bs b) → n = b.length → (0 < d → ∀ a, A = some a → ¬ X a.block) →
    Calls Tryz.prog 9 #[.pointer (some ⟨g, 0, none⟩), .slice A n d] w (Gave Rep X w g (s.told b) (s.write b))
  fin : ∀ (X : Nat → Prop) (w : World) (g : Nat) (s : SS) (q : Nat), G w → Rep X w g s → s.Ok q → q ≤ 2000 →
    Calls Tryz.prog 11 #[.pointer (some ⟨g, 0, none⟩)] w (Gave Rep X w g s.last s.fin)
  mark : ∀ (X : Nat → Prop) (w : World) (g : Nat) (s : SS), Rep X w g s → Calls Tryz.prog 15 #[.pointer (some ⟨g, 0, none⟩)] w fun e w' => e = .returned (aggM s) ∧ Up w w'
  held : ∀ (X : Nat → Prop) (w : World) (g : Nat) (s : SS), Rep X w g s → Calls Tryz.prog 16 #[.pointer (some ⟨g, 0, none⟩)] w fun e w' => e = .returned (.int .i64 (s.held.length : Int)) ∧ Up w w'
  write_nil : ∀ (w : World) (A : Option Addr) (n d : Nat), Calls Tryz.prog 9 #[.pointer none, .slice A n d] w fun e w' => ∃ v, e = .returned (.tuple #[v, .int .i64 1]) ∧ Up w w'
  fin_nil : ∀ (w : World), Calls Tryz.prog 11 #[.pointer none] w fun e w' => ∃ v, e = .returned (.tuple #[v, .int .i64 1]) ∧ Up w w'
  mark_nil : ∀ (w : World), Calls Tryz.prog 15 #[.pointer none] w fun e w' => e = .returned (aggM SS.new) ∧ Up w w'
  held_nil : ∀ (w : World), Calls Tryz.prog 16 #[.pointer none] w fun e w' => e = .returned (.int .i64 0) ∧ Up w w'

/-! ### The numbers stay small -/
theorem txt_len (l : List UInt8) : (txt l).length ≤ 16 * l.length := by
  by_cases h : ∃ cs, U.Cps cs ∧ l = U.encs cs
  · obtain ⟨cs, hc, rfl⟩ := h
    rw [txt_encs hc]
    have h1 := U.encs_len_4 (nfcL cs) (nfcL_cps hc)
    have h2 := nfcL_len cs
    have h3 := U.encs_len_le cs hc
    omega
  · unfold txt decOf
    rw [dif_neg h, nfcL_nil]
    exact Nat.zero_le _
theorem SS.new_ok : SS.new.Ok 0 := ⟨Nat.le_refl _, by decide, by decide, by decide, by decide, .inl rfl⟩
theorem SS.Ok.fail {s : SS} {q q' : Nat} (h : s.Ok q) (hq : q ≤ q') : s.fail.Ok q' where
  held := Nat.zero_le _
  inn := by have := h.inn; show s.inn + 0 ≤ _; omega
  out := by have := h.out; show s.out + 16 * 0 ≤ _; omega
  sin := h.sin
  sout := h.sout
  err := .inr rfl
theorem SS.Ok.give {s : SS} {q q' : Nat} (h : s.Ok q) {l : List UInt8} (hl : l.length + q ≤ s.held.length + q') (hq : l.length ≤ q') (hqq : q ≤ q') (n : Nat) : (s.give l n).Ok q' where
  held := by show (l.drop n).length ≤ _; rw [List.length_drop]; omega
  inn := by
    have := h.inn
    show s.inn + (l.take n).length + (l.drop n).length ≤ _
    rw [List.length_take, List.length_drop]; omega
  out := by
    have := h.out
    have h2 := txt_len (l.take n)
    show s.out + (txt (l.take n)).length + 16 * (l.drop n).length ≤ _
    rw [List.length_take] at h2
    rw [List.length_drop]; omega
  sin := crcOn_lt h.sin _
  sout := crcOn_lt h.sout _
  err := h.err
theorem SS.Ok.mono {s : SS} {q q' : Nat} (h : s.Ok q) (hq : q ≤ q') : s.Ok q' :=
  ⟨by have := h.held; omega, by have := h.inn; omega, by have := h.out; omega, h.sin, h.sout, h.err⟩
theorem SS.Ok.write {s : SS} {q : Nat} (h : s.Ok q) (b : List UInt8) : (s.write b).Ok (q + b.length) := by
  by_cases he : s.err ≠ 0
  · rw [(SS.write_err he b).1]
    exact h.mono (by omega)
  · by_cases hb : BadB (s.held ++ b)
    · rw [(SS.write_bad (by omega) hb).1]
      exact h.fail (by omega)
    · rw [(SS.write_ok (by omega) hb).1]
      have := h.held
      exact h.give (by rw [List.length_append]; omega) (by rw [List.length_append]; omega) (by omega) _
theorem SS.Ok.fin {s : SS} {q : Nat} (h : s.Ok q) : s.fin.Ok q := by
  by_cases he : s.err ≠ 0
  · rw [(SS.fin_err he).1]
    exact h
  · by_cases hb : 0 ≤ U.fault s.held
    · rw [(SS.fin_bad (by omega) hb).1]
      exact h.fail (by omega)
    · rw [(SS.fin_ok (by omega) hb).1]
      have := h.held
      exact h.give (by omega) h.held (by omega) _

/-! ### The pieces are few -/
def fsum (LL : List (List UInt8)) (k : Nat) : Nat := ((LL.take k).map fun l => min l.length 601).sum
theorem fsum_step (LL : List (List UInt8)) (k : Nat) (h : k < LL.length) : fsum LL (k + 1) = fsum LL k + min LL[k].length 601 := by
  unfold fsum
  rw [List.take_succ_eq_append_getElem h, List.map_append, List.sum_append, List.map_singleton, List.sum_singleton]
theorem fsum_le (LL : List (List UInt8)) : ∀ k, fsum LL k ≤ 601 * k
  | 0 => Nat.zero_le _
  | k + 1 => by
    by_cases h : k < LL.length
    · have := fsum_le LL k
      rw [fsum_step LL k h]; omega
    · have := fsum_le LL k
      have e : fsum LL (k + 1) = fsum LL k := by unfold fsum; rw [List.take_of_length_le (by omega), List.take_of_length_le (by omega)]
      omega
def fewB (LL : List (List UInt8)) : Bool := decide (LL.length ≤ 60) && decide (fsum LL LL.length ≤ 600)
theorem sum_le_of_mem : ∀ (l : List Nat) (x : Nat), x ∈ l → x ≤ l.sum
  | y :: l, x, h => by
    rw [List.sum_cons]
    rcases List.mem_cons.1 h with rfl | h
    · omega
    · have := sum_le_of_mem l x h; omega
theorem few_yes {LL : List (List UInt8)} (h : fewB LL = true) : LL.length ≤ 60 ∧ LL.flatten.length ≤ 600 := by
  unfold fewB at h
  rw [Bool.and_eq_true, decide_eq_true_eq, decide_eq_true_eq] at h
  refine ⟨h.1, ?_⟩
  have h2 := h.2
  unfold fsum at h2
  rw [List.take_length] at h2
  rw [List.length_flatten]
  have e : LL.map (fun l => min l.length 601) = LL.map List.length := List.map_congr_left fun l hl => by
    have := sum_le_of_mem _ _ (List.mem_map.2 ⟨l, hl, rfl⟩ : min l.length 601 ∈ LL.map fun l => min l.length 601)
    omega
  rw [e] at h2
  exact h2

set_option maxRecDepth 100000 in
theorem few_walk (W : World) (O : Option Addr) (len cap : Nat) (LL : List (List UInt8)) (hlen : LL.length = len) (_hlc : len ≤ cap) (_hcm : cap ≤ 9223372036854775807) (hin : RowsIn W O LL) :
    Calls Tryz.prog 5 #[.slice O len cap] W fun e w' => e = .returned (.bool (fewB LL)) ∧ W = w' := by
  have HF := Lib.hid hlen
  clear hlen
  by_cases hb : 60 < len
  · have hd : decide ((60 : Int) < (len : Int)) = true := decide_eq_true (by omega)
    have E := Lib.hid (show fewB LL = false by unfold fewB; rw [decide_eq_false (by rw [HF.out]; omega), Bool.false_and])
    clear hin
    go_enter Tryz.func5, Tryz.ntmps5
    go_wp2_with fail
    go_ret
    exact ⟨by rw [E.out]; rfl, rfl⟩
  · have hd : decide ((60 : Int) < (len : Int)) = false := decide_eq_false (by omega)
    go_enter Tryz.func5, Tryz.ntmps5
    go_wp2_with fail
    clear hd
    go_loopw [3, 4] (fun s i wr => ∃ k q : Nat, k ≤ len ∧ i = .int .i64 (k : Int) ∧ s = .int .i64 (q : Int) ∧ q ≤ 601 * k ∧ Hid (q = fsum LL k) ∧ wr = W) (fun _ i _ => len - (intOf i).toNat)
    case atStart => exact ⟨0, 0, Nat.zero_le _, rfl, rfl, Nat.le_refl _, Lib.hid rfl, rfl⟩
    case round =>
      obtain ⟨k, q, hk, rfl, rfl, hq, HQ, rfl⟩ := hrel
      by_cases hlt : k < len
      · have hkl : k < LL.length := by rw [HF.out]; exact hlt
        obtain ⟨a, A, c, rfl, hab, hcell, hrd⟩ := hin k hkl
        have hS := fsum_step LL k hkl
        rw [← HQ.out] at hS
        have HS := Lib.hid hS
        clear hS hrd HQ
        generalize LL[k].length = m at *
        by_cases hm : m ≤ 601
        · have hmin : min (m : Int) 601 = m := by omega
          have HM := Lib.hid (show fsum LL (k + 1) = q + m by rw [HS.out]; omega)
          go_wp2_with fail
          go_roundw
          case rel => exact ⟨k + 1, q + m, by omega, by go_num, by go_num, by omega, Lib.hid HM.out.symm, trivial⟩
          case measure => simp [intOf]; omega
        · have hmin : min (m : Int) 601 = 601 := by omega
          have HM := Lib.hid (show fsum LL (k + 1) = q + 601 by rw [HS.out]; omega)
          go_wp2_with fail
          go_roundw
          case rel => exact ⟨k + 1, q + 601, by omega, by go_num, by go_num, by omega, Lib.hid HM.out.symm, trivial⟩
          case measure => simp [intOf]; omega
      · have hk2 : k = LL.length := by rw [HF.out]; omega
        have E := Lib.hid (show fewB LL = decide ((q : Int) ≤ 600) by unfold fewB; rw [decide_eq_true (by rw [HF.out]; omega), Bool.true_and, ← hk2, ← HQ.out]; exact decide_eq_decide.2 (by omega))
        clear hk2 HQ
        go_wp2_with fail
        go_ret
        exact ⟨by rw [E.out]; rfl, rfl⟩

/-! ### The closed case -/
theorem k10_par : key parS.data.toList 15 4 = 65 := by kernel_rfl
theorem k10_parb : fld parS.data.toList 15 4 5 5 = 769 := by kernel_rfl
theorem k10_parc : fld parS.data.toList 15 4 10 5 = 193 := by kernel_rfl
theorem v10_769 : full 769 = [769] := full_no (by decide) (row_none (i := 251) (by decide) (leq (congrArg Nat.succ k8_lo) (by decide)) (geq k8_hi (by decide)))
theorem v10_two : twoO 65 769 = some 193 := two_pair (by decide) (.inl ⟨rfl, 4, by decide, k10_par, k10_parb, k10_parc⟩)
theorem norm_case10 (cls : Nat → Nat) (two : Nat → Nat → Option Nat) (fl : Nat → List Nat) (h1 : cls 65 = 0) (h2 : cls 769 = 230) (h3 : cls 66 = 0) (t : two 65 769 = some 193) (f1 : fl 65 = [65]) (f2 : fl 769 = [769]) (f3 : fl 66 = [66]) :
    Nrmr.nfc cls two fl [65, 769] = [193] ∧ Nrmr.nfc cls two fl [66] = [66] := by
  have e : ord cls [65, 769] = [65, 769] := by simp [ord, kept, ins, h1, h2]
  have e2 : comp cls two [65, 769] = [193] := by simp [comp, run, Cmpr.step, Cmpr.keep, Cmpr.blocked, back, h1, t]
  have e3 : ord cls [66] = [66] := by simp [ord, kept, ins]
  have e4 : comp cls two [66] = [66] := by simp [comp, run, Cmpr.step, Cmpr.keep, back, h3]
  refine ⟨?_, ?_⟩
  · simp [Nrmr.nfc, Nrmr.nfd, f1, f2, e, e2]
  · simp [Nrmr.nfc, Nrmr.nfd, f3, e3, e4]
theorem norm_vals10 : nfcL [65, 769] = [193] ∧ nfcL [66] = [66] :=
  norm_case10 clsOf twoO full (small_cls (by decide)) v_cls (small_cls (by decide)) v10_two v8_65 v10_769 (full_below (by decide))
theorem cps_of {l : List Nat} (h : l.all (fun c => decide (c ≤ 1114111) && !(decide (55296 ≤ c) && decide (c ≤ 57343))) = true) : U.Cps l := fun c hc => by
  have := List.all_eq_true.1 h c hc
  unfold U.isCp
  simp at this
  omega
theorem safe_case1 : safeOf [65] = 0 := rfl
theorem safe_case2 : safeOf [65, 769, 66] = 2 := by
  show safeF [65, 769, 66] (1 + 1) = 2
  rw [safeF_step]
  show (if startOf 66 = true then 2 else safeF [65, 769, 66] 1) = 2
  rw [v8_66, if_pos rfl]
theorem right_encs {cs : List Nat} (h : U.Cps cs) : ¬ BadB (U.encs cs) ∧ rightOf (U.encs cs) = U.encs cs := by
  have := U.fault_encs h
  refine ⟨fun hb => ?_, ?_⟩
  · have := hb.1; omega
  · unfold rightOf; rw [if_neg (by omega)]
/-- The three calls of the closed case. -/
theorem awake_vals : ∃ a b c : SS, SS.new.write [65] = a ∧ SS.new.told [65] = [] ∧ a.err = 0 ∧ a.Ok 1 ∧ a.write [204, 129, 66] = b ∧ a.told [204, 129, 66] = [195, 129] ∧ b.err = 0 ∧ b.Ok 4 ∧ b.fin = c ∧ b.last = [66] ∧ c.err = 0 ∧ c.inn = 4 ∧ c.out = 3 := by
  have hc1 : U.Cps [65] := cps_of (by decide)
  have hc2 : U.Cps [65, 769, 66] := cps_of (by decide)
  have hc3 : U.Cps [66] := cps_of (by decide)
  have hc4 : U.Cps [65, 769] := cps_of (by decide)
  have e1 : U.encs [65] = [65] := by decide
  have e2 : U.encs [65, 769, 66] = [65, 204, 129, 66] := by decide
  have e3 : U.encs [66] = [66] := by decide
  have e4 : U.encs [65, 769] = [65, 204, 129] := by decide
  have e5 : U.encs [193] = [195, 129] := by decide
  obtain ⟨b1, r1⟩ := right_encs hc1
  obtain ⟨b2, r2⟩ := right_encs hc2
  have s1 := safeB_encs hc1
  have s2 := safeB_encs hc2
  have t3 := txt_encs hc3
  have t4 := txt_encs hc4
  rw [safe_case1, e1] at s1
  rw [safe_case2, e2] at s2
  rw [e1] at b1 r1
  rw [e2] at b2 r2
  rw [norm_vals10.2, e3] at t3
  rw [norm_vals10.1, e4, e5] at t4
  have w1 := SS.write_ok (s := SS.new) rfl (b := [65]) b1
  rw [show SS.new.held ++ [65] = [65] from rfl, r1, s1, show (U.encs ([65].take 0)).length = 0 from rfl, show ([65] : List UInt8).take 0 = [] from rfl, txt_nil] at w1
  have o1 := SS.new_ok.write [65]
  rw [w1.1] at o1
  have w2 := SS.write_ok (s := SS.new.give [65] 0) rfl (b := [204, 129, 66]) b2
  rw [show (SS.new.give [65] 0).held ++ [204, 129, 66] = [65, 204, 129, 66] from rfl, r2, s2, show (U.encs ([65, 769, 66].take 2)).length = 3 from by decide, show ([65, 204, 129, 66] : List UInt8).take 3 = [65, 204, 129] from rfl, t4] at w2
  have o2 := o1.write [204, 129, 66]
  rw [w2.1] at o2
  have hb3 : ¬ 0 ≤ U.fault ((SS.new.give [65] 0).give [65, 204, 129, 66] 3).held := by
    show ¬ 0 ≤ U.fault [66]
    rw [← e3, U.fault_encs hc3]; decide
  have w3 := SS.fin_ok (s := (SS.new.give [65] 0).give [65, 204, 129, 66] 3) rfl hb3
  refine ⟨_, _, _, w1.1, w1.2, rfl, o1, w2.1, w2.2, rfl, o2, w3.1, w3.2.trans t3, rfl, rfl, ?_⟩
  show 0 + (txt ([65].take 0)).length + (txt ([65, 204, 129, 66].take 3)).length + (txt ([66].take 1)).length = 3
  rw [show ([65] : List UInt8).take 0 = [] from rfl, txt_nil, show ([65, 204, 129, 66] : List UInt8).take 3 = [65, 204, 129] from rfl, t4, show ([66] : List UInt8).take 1 = [66] from rfl, t3]
  rfl

end Go.Proofs.YtipemmjbgegmfaaGreatDoor
