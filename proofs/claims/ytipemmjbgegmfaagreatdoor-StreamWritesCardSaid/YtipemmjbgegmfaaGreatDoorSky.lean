/- Sky: one text of Skf Skg. -/
import Derived.Test.YtipemmjbgegmfaaGreatDoorSkx
import Derived.Test.YtipemmjbgegmfaaGreatDoorStr

/- The program's stream: New, From, Mark, Held. -/
namespace Go.Proofs.YtipemmjbgegmfaaGreatDoor
open Go.RowKit Go.Proofs.YtipemmjbgegmfaaGreatDoor.Ordr Go.Proofs.YtipemmjbgegmfaaGreatDoor.Cmpr

/-- How a stream is held: at block g, its bytes in a row of its own. -/
def RepS (X : Nat → Prop) (w : World) (g : Nat) (s : SS) : Prop :=
  ∃ A c p, w.heap[g]? = some (seven s.inn s.out s.sin s.sout s.err A s.held.length c p) ∧ w.ownsRow 0 5 1 (.slice A s.held.length c) s.held.length (bs s.held) ∧ (Value.slice A s.held.length c).ownBlock ≠ some g ∧
    (s.err = 0 → LastOk s.held p) ∧ (∀ b, X b ↔ (b = g ∨ (Value.slice A s.held.length c).ownBlock = some b)) ∧ ∀ b, X b → b ≠ 0
theorem RepS.new {w : World} {g : Nat} {s : SS} {p : Nat} (h : w.heap[g]? = some (seven s.inn s.out s.sin s.sout s.err none 0 0 p)) (hh : s.held = []) (hp : s.err = 0 → p = 0) (hg : g ≠ 0) : RepS (fun b => b = g) w g s := by
  refine ⟨none, 0, p, by rw [hh]; exact h, by rw [hh]; exact World.ownsRow_nil _ _ _ _, ?_, fun e => .inl (hp e), fun b => ⟨fun e => .inl e, fun e => ?_⟩, fun b e => by rw [e]; exact hg⟩
  · intro e; cases e
  · rcases e with e | e
    · exact e
    · cases e
theorem RepS.stay {X Y : Nat → Prop} {w w' : World} {g : Nat} {s : SS} (h : RepS X w g s) (hf : Fx Y w w') (hX : ∀ b, X b → ¬ Y b) : RepS X w' g s := by
  obtain ⟨A, c, p, h1, h2, h3, h4, h5, h6⟩ := h
  exact ⟨A, c, p, obj_fx h1 hf (hX g ((h5 g).2 (.inl rfl))), own_fx h2 hf (fun b hb => hX b ((h5 b).2 (.inr hb))), h3, h4, h5, h6⟩
theorem RepS.lt {X : Nat → Prop} {w : World} {g : Nat} {s : SS} (h : RepS X w g s) : ∀ b, X b → b < w.heap.size := fun b hb => by
  obtain ⟨A, c, p, h1, h2, h3, h4, h5, h6⟩ := h
  rcases (h5 b).1 hb with e | e
  · rw [e]; exact obj_lt h1
  · exact (h2.lt b e).2

set_option maxRecDepth 100000 in
theorem new_code10 (w : World) (hw : HRows w) : Calls Tryz.prog 7 #[] w fun e w' => ∃ X g, e = .returned (.pointer (some ⟨g, 0, none⟩)) ∧ RepS X w' g SS.new ∧ Up w w' ∧ ∀ k, X k → w.heap.size ≤ k := by
  have hl := hw.lt
  clear hw
  go_enter Tryz.func7, Tryz.ntmps7
  go_wp2_with fail
  go_ret
  exact ⟨_, _, rfl, RepS.new (p := 0) (heap_alloc_new w _) rfl (fun _ => rfl) (by omega), (Up.refl w).alloc _, fun k e => by omega⟩

theorem mark_ne (a b c d x y z u : Int) (w : World) : (binOp .neq 30 (.agg #[.int .i64 a, .int .i64 b, .int .u32 c, .int .u32 d]) (.agg #[.int .i64 x, .int .i64 y, .int .u32 z, .int .u32 u])).run Tryz.prog w = .ok (.bool (!(a == x && b == y && c == z && d == u))) w := by
  have h := mark_eq a b c d x y z u w
  rw [run_eql_struct] at h
  rw [run_neq_struct]
  generalize (Op.equalIn 10000 _ _ _).run Tryz.prog w = r at *
  cases r with
  | ok b w' =>
    simp only [Result.andThen_ok] at h ⊢
    injection h with h1 h2
    injection h1 with h1
    subst h1 h2
    rfl
  | halt x w' => simp [Result.andThen] at h

set_option maxRecDepth 100000 in
set_option maxHeartbeats 800000 in
theorem from_code10 (w : World) (s : SS) (hw : HRows w) (hs : s.Ok 0) (hh : s.held = []) (he : s.err = 0) (ho : s.out ≤ 1099511627776) (hz : s.inn = 0 → s.out = 0 ∧ s.sin = 0 ∧ s.sout = 0) :
    Calls Tryz.prog 13 #[aggM s] w fun e w' => ∃ X g, e = .returned (.tuple #[.pointer (some ⟨g, 0, none⟩), .int .i64 0]) ∧ RepS X w' g s ∧ Up w w' ∧ ∀ k, X k → w.heap.size ≤ k := by
  have hl := hw.lt
  have hi := hs.inn
  have HG := Lib.hid (fun w' g p (h : w'.heap[g]? = some (seven s.inn s.out s.sin s.sout 0 none 0 0 p)) (hp : p = 0) (hg : w.heap.size ≤ g) (u : Up w w') => (show ∃ X g_1, Ending.returned (.tuple #[.pointer (some ⟨g, 0, none⟩), .int .i64 0]) = .returned (.tuple #[.pointer (some ⟨g_1, 0, none⟩), .int .i64 0]) ∧ RepS X w' g_1 s ∧ Up w w' ∧ ∀ k, X k → w.heap.size ≤ k from
    ⟨_, g, rfl, RepS.new (p := p) (by rw [he]; exact h) hh (fun _ => hp) (by omega), u, fun k e => by omega⟩))
  rw [hh] at hi
  simp only [List.length_nil, Nat.add_zero] at hi
  unfold aggM
  clear hw hs hh he hl
  generalize s.inn = i at *
  generalize s.out = o at *
  generalize s.sin = si at *
  generalize s.sout = so at *
  have me := mark_ne
  have d1 : decide ((i : Int) < 0) = false := decide_eq_false (by omega)
  have d2 : decide ((1099511627776 : Int) < (i : Int)) = false := decide_eq_false (by omega)
  have d3 : decide ((o : Int) < 0) = false := decide_eq_false (by omega)
  have d4 : decide ((1099511627776 : Int) < (o : Int)) = false := decide_eq_false (by omega)
  by_cases h0 : i = 0
  · obtain ⟨rfl, rfl, rfl⟩ := hz h0
    subst h0
    clear hz
    go_enter Tryz.func13, Tryz.ntmps13
    go_wp2_with fail
    go_ret2
    exact HG.out _ _ 0 (heap_alloc2_new w _ _) rfl (by omega) (((Up.refl w).alloc _).alloc _)
  · have d5 : ((i : Int) == 0) = false := by rw [beq_eq_false_iff_ne]; omega
    clear hz h0
    go_enter Tryz.func13, Tryz.ntmps13
    go_wp2_with fail
    go_ret2
    exact HG.out _ _ 0 (heap_alloc2_new w _ _) rfl (by omega) (((Up.refl w).alloc _).alloc _)

set_option maxRecDepth 100000 in
set_option maxHeartbeats 1600000 in
theorem from_no10 (w : World) (a b : Int) (c d : Nat) (hno : ¬ (0 ≤ a ∧ 0 ≤ b ∧ a ≤ 1099511627776 ∧ b ≤ 1099511627776 ∧ (a = 0 → b = 0 ∧ c = 0 ∧ d = 0))) (ha1 : -9223372036854775808 ≤ a) (ha2 : a ≤ 9223372036854775807) (hb1 : -9223372036854775808 ≤ b) (hb2 : b ≤ 9223372036854775807) :
    Calls Tryz.prog 13 #[.agg #[.int .i64 a, .int .i64 b, .int .u32 (c : Int), .int .u32 (d : Int)]] w fun e w' => e = .returned (.tuple #[.pointer none, .int .i64 2]) ∧ Up w w' := by
  have me := mark_ne
  by_cases h1 : a < 0
  · have d1 : decide (a < 0) = true := decide_eq_true h1
    clear hno h1
    go_enter Tryz.func13, Tryz.ntmps13
    go_wp2_with fail
    go_ret2
    exact ⟨rfl, (Up.refl w).alloc _⟩
  have d1 : decide (a < 0) = false := decide_eq_false h1
  by_cases h2 : 1099511627776 < a
  · have d2 : decide (1099511627776 < a) = true := decide_eq_true h2
    clear hno h1 h2
    go_enter Tryz.func13, Tryz.ntmps13
    go_wp2_with fail
    go_ret2
    exact ⟨rfl, (Up.refl w).alloc _⟩
  have d2 : decide (1099511627776 < a) = false := decide_eq_false h2
  by_cases h3 : b < 0
  · have d3 : decide (b < 0) = true := decide_eq_true h3
    clear hno h1 h2 h3
    go_enter Tryz.func13, Tryz.ntmps13
    go_wp2_with fail
    go_ret2
    exact ⟨rfl, (Up.refl w).alloc _⟩
  have d3 : decide (b < 0) = false := decide_eq_false h3
  by_cases h4 : 1099511627776 < b
  · have d4 : decide (1099511627776 < b) = true := decide_eq_true h4
    clear hno h1 h2 h3 h4
    go_enter Tryz.func13, Tryz.ntmps13
    go_wp2_with fail
    go_ret2
    exact ⟨rfl, (Up.refl w).alloc _⟩
  have d4 : decide (1099511627776 < b) = false := decide_eq_false h4
  have h5 : a = 0 := Classical.byContradiction fun h => hno ⟨by omega, by omega, by omega, by omega, fun e => absurd e h⟩
  subst h5
  have hx : ((0 : Int) == 0 && b == 0 && (c : Int) == 0 && (d : Int) == 0) = false := by
    rw [Bool.eq_false_iff]
    intro he
    simp only [Bool.and_eq_true, beq_iff_eq] at he
    exact hno ⟨by omega, by omega, by omega, by omega, fun _ => ⟨by omega, by omega, by omega⟩⟩
  have m2 : ∀ w, (binOp .neq 30 (.agg #[.int .i64 0, .int .i64 b, .int .u32 (c : Int), .int .u32 (d : Int)]) (.agg #[.int .i64 0, .int .i64 0, .int .u32 0, .int .u32 0])).run Tryz.prog w = .ok (.bool true) w := fun w => by rw [mark_ne, hx]; rfl
  clear hno h1 h2 h3 h4 hx me
  go_enter Tryz.func13, Tryz.ntmps13
  go_wp2_with fail
  go_ret2
  exact ⟨rfl, (Up.refl w).alloc _⟩

/-! ### Mark, Held -/
theorem ret_mark {fn : Func} {p : Tmp} (h : fn.results = #[.cell p 30]) {R : Ending → World → Prop} {a : Act} {w : World} {g : Nat} {t : TypeId} {x y z u : Value} {fr : Nat × Nat}
    (hp : a.tmps.getD p undef = .pointer (some ⟨g, 0, none⟩)) (hg : w.heap[g]? = some (.cells #[x, y, z, u] t fr)) (hdf : a.defers = []) (hR : R (.returned (.agg #[x, y, z, u])) w) : bodyPost Tryz.prog fn R .ret a w :=
  bodyPost_ret_by (results_cell_row h a.tmps w g t #[x, y, z, u] fr _ hp hg Tryz.underlying30 rfl (by kernel_rfl)) hdf hR
set_option maxRecDepth 100000 in
theorem mark_code10 (X : Nat → Prop) (w : World) (g : Nat) (s : SS) (h : RepS X w g s) : Calls Tryz.prog 15 #[.pointer (some ⟨g, 0, none⟩)] w fun e w' => e = .returned (aggM s) ∧ Up w w' := by
  obtain ⟨A, c, p, h1, -⟩ := h
  have HH := Lib.hid h1
  have hlt := obj_lt h1
  obtain ⟨w1, hw1⟩ : ∃ w1, w.alloc (.cells #[.int .i64 0, .int .i64 0, .int .u32 0, .int .u32 0] 30) = w1 := ⟨_, rfl⟩
  have hu1 : Up w w1 := by rw [← hw1]; exact (Up.refl w).alloc _
  have om : w1.heap[w.heap.size]? = some (.cells #[.int .i64 0, .int .i64 0, .int .u32 0, .int .u32 0] 30 (0, 0)) := by rw [← hw1]; exact heap_alloc_new w _
  obtain ⟨-, x0, x1, x2, x3, -, -, -⟩ := seven_cells (obj_up h1 hu1)
  have b0 := obj_cell om 0
  have b1 := obj_cell om 1
  have b2 := obj_cell om 2
  have b3 := obj_cell om 3
  simp only [List.getElem?_toArray, List.getElem?_cons_zero, List.getElem?_cons_succ] at b0 b1 b2 b3
  have f0 := obj_frozen om 0
  have f1 := obj_frozen om 1
  have f2 := obj_frozen om 2
  have f3 := obj_frozen om 3
  unfold aggM
  go_enter Tryz.func15, Tryz.ntmps15
  go_wp2_with (rw [hw1])
  refine ret_mark rfl rfl (obj_set (obj_set (obj_set (obj_set om 0 _) 1 _) 2 _) 3 _) rfl ⟨rfl, ?_⟩
  exact (((hu1.setCell (Nat.le_refl _) 0 _).setCell (Nat.le_refl _) 1 _).setCell (Nat.le_refl _) 2 _).setCell (Nat.le_refl _) 3 _
set_option maxRecDepth 100000 in
theorem mark_nil10 (w : World) : Calls Tryz.prog 15 #[.pointer none] w fun e w' => e = .returned (aggM SS.new) ∧ Up w w' := by
  obtain ⟨w1, hw1⟩ : ∃ w1, w.alloc (.cells #[.int .i64 0, .int .i64 0, .int .u32 0, .int .u32 0] 30) = w1 := ⟨_, rfl⟩
  have hu1 : Up w w1 := by rw [← hw1]; exact (Up.refl w).alloc _
  have om : w1.heap[w.heap.size]? = some (.cells #[.int .i64 0, .int .i64 0, .int .u32 0, .int .u32 0] 30 (0, 0)) := by rw [← hw1]; exact heap_alloc_new w _
  have b0 := obj_cell om 0
  have b1 := obj_cell om 1
  have b2 := obj_cell om 2
  have b3 := obj_cell om 3
  simp only [List.getElem?_toArray, List.getElem?_cons_zero, List.getElem?_cons_succ] at b0 b1 b2 b3
  have f0 := obj_frozen om 0
  have f1 := obj_frozen om 1
  have f2 := obj_frozen om 2
  have f3 := obj_frozen om 3
  go_enter Tryz.func15, Tryz.ntmps15
  go_wp2_with (rw [hw1])
  refine ret_mark rfl rfl (obj_set (obj_set (obj_set (obj_set om 0 _) 1 _) 2 _) 3 _) rfl ⟨rfl, ?_⟩
  exact (((hu1.setCell (Nat.le_refl _) 0 _).setCell (Nat.le_refl _) 1 _).setCell (Nat.le_refl _) 2 _).setCell (Nat.le_refl _) 3 _
theorem held_code10 (X : Nat → Prop) (w : World) (g : Nat) (s : SS) (h : RepS X w g s) : Calls Tryz.prog 16 #[.pointer (some ⟨g, 0, none⟩)] w fun e w' => e = .returned (.int .i64 (s.held.length : Int)) ∧ Up w w' := by
  obtain ⟨A, c, p, h1, -⟩ := h
  obtain ⟨-, -, -, -, -, -, x5, -⟩ := seven_cells h1
  clear h1
  generalize s.held.length = n at *
  go_enter Tryz.func16, Tryz.ntmps16
  go_wp2_with fail
  go_ret
  exact ⟨rfl, Up.refl _⟩
theorem held_nil10 (w : World) : Calls Tryz.prog 16 #[.pointer none] w fun e w' => e = .returned (.int .i64 0) ∧ Up w w' := by
  go_enter Tryz.func16, Tryz.ntmps16
  go_wp2_with fail
  go_ret
  exact ⟨rfl, Up.refl _⟩

end Go.Proofs.YtipemmjbgegmfaaGreatDoor

/- The program's stream does what is asked: Write, End. -/
namespace Go.Proofs.YtipemmjbgegmfaaGreatDoor
open Go.RowKit Go.Proofs.YtipemmjbgegmfaaGreatDoor.Ordr Go.Proofs.YtipemmjbgegmfaaGreatDoor.Cmpr

theorem safe_enters : ∀ args w, (callFunc 19 args).run Tryz.prog w = .ok (.enter 19 args) w := enters_of Tryz.func19 (by kernel_rfl) rfl
theorem all_enters : ∀ args w, (callFunc 24 args).run Tryz.prog w = .ok (.enter 24 args) w := enters_of Tryz.func24 (by kernel_rfl) rfl

/-- Nothing is told. -/
theorem gave_none {X : Nat → Prop} {w w' : World} {g : Nat} {s' : SS} {X' : Nat → Prop} (h : RepS X' w' g s') (hf : Fx X w w') (hX : ∀ k, X' k → X k ∨ w.heap.size ≤ k) : Gave RepS X w g [] s' (.returned (.tuple #[.slice none 0 0, .int .i64 (s'.err : Int)])) w' :=
  ⟨X', none, 0, rfl, World.ownsRow_nil _ _ _ _, (fun b hb => by cases hb), h, hf, hX⟩
/-- So many bytes are told. -/
theorem gave_some {X : Nat → Prop} {w w5 w' : World} {g : Nat} {s : SS} {l : List UInt8} {k : Nat} {old : Value} {e : Ending} (hk : k ≤ l.length) (he : s.err = 0) (h : GaveP w5 g s.inn s.out s.sin s.sout 0 l k old e w') (hf : Fx X w w5) (hg : X g) (hw : HRows w) (hXr : ∀ b, X b → b ≠ 0) (ho : ∀ b, old.ownBlock = some b → X b ∨ w.heap.size ≤ b) (hog : old.ownBlock ≠ some g) (hgl : g < w5.heap.size) :
    Gave RepS X w g (txt (l.take k)) (s.give l k) e w' := by
  obtain ⟨D, d, rfl, hO, hDg, A', c', p', h1, h2, h3, h4, h5, h6⟩ := h
  have hlt := hw.lt
  have hs := hf.size
  have hd : l.length - k = (l.drop k).length := by rw [List.length_drop]
  rw [hd] at h1 h2 h5 h6
  have hX : ∀ b, (b = g ∨ (Value.slice A' (l.drop k).length c').ownBlock = some b) → X b ∨ w.heap.size ≤ b := fun b hb => by
    rcases hb with rfl | hb
    · exact .inl hg
    · rcases h5 b hb with h7 | h7
      · exact ho b h7
      · exact .inr (by omega)
  have hg2 : (Value.slice A' (l.drop k).length c').ownBlock ≠ some g := fun hb => by
    rcases h5 g hb with h7 | h7
    · exact hog h7
    · omega
  refine ⟨fun b => b = g ∨ (Value.slice A' (l.drop k).length c').ownBlock = some b, D, d, ?_, own_base hO hs, fun b hb hx => ?_, ⟨A', c', p', ?_, h2, hg2, fun _ => h3, fun b => Iff.rfl, fun b hb => ?_⟩, hf.trans ⟨h4.os, h4.tape, h4.output, h4.size, fun i hi hn => h4.block i hi (fun e => hn (by rw [e]; exact hg))⟩, hX⟩
  · show _ = Ending.returned (.tuple #[_, .int .i64 (s.err : Int)])
    rw [he]; rfl
  · rcases hx with rfl | hx
    · exact hDg hb
    · exact h6 b hx hb
  · show _ = some (seven (s.inn + (l.take k).length) (s.out + (txt (l.take k)).length) (crcOn s.sin (l.take k)) (crcOn s.sout (txt (l.take k))) s.err A' (l.drop k).length c' p')
    rw [List.length_take, Nat.min_eq_left hk, he]
    exact h1
  · rcases hX b hb with h7 | h7
    · exact hXr b h7
    · omega

set_option maxRecDepth 100000 in
set_option maxHeartbeats 1600000 in
theorem write_code10 (X : Nat → Prop) (w : World) (g : Nat) (s : SS) (q : Nat) (A : Option Addr) (n d : Nat) (b : List UInt8) (hw : HRows w) (hR : RepS X w g s) (hs : s.Ok q) (hq : q + n ≤ 2000) (hb : Rd w A d (bs b)) (hn : n = b.length) (_hoff : 0 < d → ∀ a, A = some a → ¬ X a.block) :
    Calls Tryz.prog 9 #[.pointer (some ⟨g, 0, none⟩), .slice A n d] w (Gave RepS X w g (s.told b) (s.write b)) := by
  have HRW := Lib.hid hR
  obtain ⟨B, c, p, h1, hO, hBg, hL, hX, hXr⟩ := hR
  have CF := Lib.hid (failed_code w g s.inn s.out s.sin s.sout s.err B s.held.length c p h1)
  by_cases he : s.err ≠ 0
  · have HG := Lib.hid (show Gave RepS X w g (s.told b) (s.write b) (.returned (.tuple #[.slice none 0 0, .int .i64 (s.err : Int)])) w from by
      rw [(SS.write_err he b).1, (SS.write_err he b).2]
      exact gave_none HRW.out (Fx.refl _ _) (fun k hk => .inl hk))
    have e1 : ((s.err : Int) == 0) = false := by rw [beq_eq_false_iff_ne]; omega
    clear hw HRW hs hq hb hn _hoff h1 hO hBg hL hX hXr he
    generalize s.err = er at *
    go_enter Tryz.func9, Tryz.ntmps9
    go_wp2_with fail
    refine CF.out.mono ?_
    rintro e w1 ⟨rfl, rfl⟩
    go_wp2_with fail
    go_ret2
    exact HG.out
  · have he : s.err = 0 := by omega
    have hl := hL he
    have hgl := obj_lt h1
    have hwl := hw.lt
    have hh := hs.held
    have hil := hs.inn
    have hol := hs.out
    rw [he] at CF h1
    obtain ⟨v', w4, hap, hO4, hgr, hown⟩ := elB.app (m := n) w 31 hO hb (by rw [bs_len]; exact hn) (one_bs b) (by omega) (by omega) (Nat.zero_le _)
    rw [show bs s.held ++ bs b = bs (s.held ++ b) from by unfold bs; rw [List.map_append]] at hO4
    obtain ⟨C, e4, rfl, -⟩ := own_rd hO4
    have hlen : s.held.length + n = (s.held ++ b).length := by rw [List.length_append, hn]
    have hBX : ∀ k, (Value.slice B s.held.length c).ownBlock = some k → X k := fun k hk => (hX k).2 (.inr hk)
    have hC : ∀ k, (Value.slice C (s.held.length + n) e4).ownBlock = some k → X k ∨ w.heap.size ≤ k := fun k hk => by
      rcases hown with h3 | h3
      · rw [h3] at hk; exact .inl (hBX k hk)
      · rw [h3] at hk; injection hk with hk; exact .inr (by omega)
    have hCg : (Value.slice C (s.held.length + n) e4).ownBlock ≠ some g := fun hk => by
      rcases hown with h3 | h3
      · rw [h3] at hk; exact hBg hk
      · rw [h3] at hk; injection hk with hk; omega
    have hX4 : Fx X w w4 := ⟨hgr.os, hgr.tape, hgr.output, hgr.size, fun i hi hn => hgr.block i hi (fun e => hn (hBX i e.symm))⟩
    have h4 : w4.heap[g]? = some (seven s.inn s.out s.sin s.sout 0 B s.held.length c p) := (hgr.block g hgl (fun e => hBg e.symm)).trans h1
    have hgX : X g := (hX g).2 (.inl rfl)
    have h5 := seven_set5 h4 C (s.held.length + n) e4
    have hF45 : Fx (fun b => b = g) w4 (w4.setCell ⟨g, 5, none⟩ (.slice C (s.held.length + n) e4)) := (Fx.refl (fun b => b = g) w4).set (p := ⟨g, 5, none⟩) (.inl rfl) _
    have hX5 : Fx X w (w4.setCell ⟨g, 5, none⟩ (.slice C (s.held.length + n) e4)) := hX4.set (p := ⟨g, 5, none⟩) (.inl hgX) _
    have hO5 := own_fx hO4 hF45 (fun k hk hx => by subst hx; exact hCg hk)
    have hw5 := hrows_fx hw hX5 (fun hx => hXr _ hx rfl)
    obtain ⟨fz4, -, -, -, -, -, x5, -⟩ := seven_cells h4
    obtain ⟨-, -, -, -, -, -, y5, -⟩ := seven_cells h1
    have hs4 := hgr.size
    have hgl5 : g < (w4.setCell ⟨g, 5, none⟩ (.slice C (s.held.length + n) e4)).heap.size := by rw [World.size_setCell]; omega
    have CS := safe_code (w4.setCell ⟨g, 5, none⟩ (.slice C (s.held.length + n) e4)) g s.inn s.out s.sin s.sout 0 C (s.held.length + n) e4 p (s.held ++ b) h5 (own_read hO5) hlen (by omega) (hl.app b)
    have hoS : ∀ k, (Value.slice C (s.held.length + n) e4).ownBlock = some k → X k ∨ w.heap.size ≤ k := hC
    have CGV : Hid (Calls Tryz.prog 18 #[.pointer (some ⟨g, 0, none⟩), .func (.func 19) #[.pointer (some ⟨g, 0, none⟩)] #[]] (w4.setCell ⟨g, 5, none⟩ (.slice C (s.held.length + n) e4)) (Gave RepS X w g (s.told b) (s.write b))) := by
      by_cases hbad : BadB (s.held ++ b)
      · refine Lib.hid ((give_bad _ safe_enters _ g s.inn s.out s.sin s.sout 0 C (s.held.length + n) e4 p h5 (CS.mono fun e w' hp => ?_)).mono fun e w' hp => ?_)
        · rcases hp with ⟨_, h7, h8⟩ | ⟨h7, _⟩
          · exact ⟨h7, h8⟩
          · exact absurd hbad h7
        · obtain ⟨rfl, h7, h8⟩ := hp
          rw [(SS.write_bad he hbad).1, (SS.write_bad he hbad).2]
          exact gave_none (s' := s.fail) (RepS.new (s := s.fail) (p := p) h7 rfl (fun e => by cases e) (hXr g hgX)) (hX5.trans ⟨h8.os, h8.tape, h8.output, h8.size, fun i hi hn => h8.block i hi (fun e => hn (by rw [e]; exact hgX))⟩) (fun k hk => .inl (by rw [hk]; exact hgX))
      · obtain ⟨hk, hcs⟩ := safe_right (s.held ++ b)
        refine Lib.hid ((give_ok _ safe_enters _ g s.inn s.out s.sin s.sout 0 C (s.held.length + n) e4 (s.held ++ b) (safeB (rightOf (s.held ++ b))) hgl5 hO5 hCg hlen (by omega) (by omega) hcs hw5 (hXr g hgX) (by omega) (by omega) hs.sin hs.sout (CS.mono fun e w' hp => ?_)).mono fun e w' hp => ?_)
        · rcases hp with ⟨h7, _⟩ | ⟨_, h7, p', h8, h9, h10⟩
          · exact absurd h7 hbad
          · exact ⟨h7, p', h8, h9, h10⟩
        · rw [(SS.write_ok he hbad).1, (SS.write_ok he hbad).2]
          exact gave_some hk he hp hX5 hgX hw hXr hoS hCg hgl5
    have HA := Lib.hid hap
    clear hw HRW hs hq hb hn _hoff h1 hO hBg hL hX hXr he hl hgl hwl hh hil hol hap hO4 hgr hown hlen hBX hC hCg hX4 h4 hgX h5 hF45 hX5 hO5 hw5 hs4 hgl5 CS hoS
    generalize s.held.length = hn0 at *
    go_enter Tryz.func9, Tryz.ntmps9
    go_wp2_with fail
    refine CF.out.mono ?_
    rintro e w1 ⟨rfl, rfl⟩
    go_wp2_with (at_builtin; refine wpList_app rfl _ _ _ rfl rfl rfl HA.out ?_)
    refine CGV.out.mono ?_
    rintro e w2 hp
    have HP := Lib.hid hp
    obtain ⟨_, D, d2, rfl, -⟩ := hp
    generalize (s.told b).length = tl at *
    go_wp2_with fail
    go_ret2
    exact HP.out

set_option maxRecDepth 100000 in
set_option maxHeartbeats 800000 in
theorem end_code10 (X : Nat → Prop) (w : World) (g : Nat) (s : SS) (q : Nat) (hw : HRows w) (hR : RepS X w g s) (hs : s.Ok q) (hq : q ≤ 2000) :
    Calls Tryz.prog 11 #[.pointer (some ⟨g, 0, none⟩)] w (Gave RepS X w g s.last s.fin) := by
  have HRW := Lib.hid hR
  obtain ⟨B, c, p, h1, hO, hBg, hL, hX, hXr⟩ := hR
  have CF := Lib.hid (failed_code w g s.inn s.out s.sin s.sout s.err B s.held.length c p h1)
  by_cases he : s.err ≠ 0
  · have HG := Lib.hid (show Gave RepS X w g s.last s.fin (.returned (.tuple #[.slice none 0 0, .int .i64 (s.err : Int)])) w from by
      rw [(SS.fin_err he).1, (SS.fin_err he).2]
      exact gave_none HRW.out (Fx.refl _ _) (fun k hk => .inl hk))
    have e1 : ((s.err : Int) == 0) = false := by rw [beq_eq_false_iff_ne]; omega
    clear hw HRW hs hq h1 hO hBg hL hX hXr he
    generalize s.err = er at *
    go_enter Tryz.func11, Tryz.ntmps11
    go_wp2_with fail
    refine CF.out.mono ?_
    rintro e w1 ⟨rfl, rfl⟩
    go_wp2_with fail
    go_ret2
    exact HG.out
  · have he : s.err = 0 := by omega
    have hl := hL he
    have hgl := obj_lt h1
    have hh := hs.held
    have hil := hs.inn
    have hol := hs.out
    rw [he] at CF h1
    have hBX : ∀ k, (Value.slice B s.held.length c).ownBlock = some k → X k ∨ w.heap.size ≤ k := fun k hk => .inl ((hX k).2 (.inr hk))
    have hgX : X g := (hX g).2 (.inl rfl)
    have CA := all_code w g s.inn s.out s.sin s.sout 0 B s.held.length c p h1
    have CGV : Hid (Calls Tryz.prog 18 #[.pointer (some ⟨g, 0, none⟩), .func (.func 24) #[.pointer (some ⟨g, 0, none⟩)] #[]] w (Gave RepS X w g s.last s.fin)) := by
      by_cases hbad : 0 ≤ U.fault s.held
      · refine Lib.hid ((give_text _ all_enters w g s.inn s.out s.sin s.sout 0 B s.held.length c p s.held h1 (own_read hO) rfl (by omega) hw hbad CA).mono fun e w' hp => ?_)
        obtain ⟨rfl, h7, h8⟩ := hp
        rw [(SS.fin_bad he hbad).1, (SS.fin_bad he hbad).2]
        exact gave_none (s' := s.fail) (RepS.new (s := s.fail) (p := p) h7 rfl (fun e => by cases e) (hXr g hgX)) ⟨h8.os, h8.tape, h8.output, h8.size, fun i hi hn => h8.block i hi (fun e => hn (by rw [e]; exact hgX))⟩ (fun k hk => .inl (by rw [hk]; exact hgX))
      · obtain ⟨cs, hcs, hen⟩ := U.right_of (l := s.held) (by omega)
        refine Lib.hid ((give_ok _ all_enters w g s.inn s.out s.sin s.sout 0 B s.held.length c s.held s.held.length hgl hO hBg rfl (by omega) (Nat.le_refl _) ⟨cs, hcs, by rw [List.take_length]; exact hen⟩ hw (hXr g hgX) (by omega) (by omega) hs.sin hs.sout (CA.mono fun e w' hp => ?_)).mono fun e w' hp => ?_)
        · obtain ⟨h7, rfl⟩ := hp
          exact ⟨h7, p, h1, Fx.refl _ _, fun _ => hl⟩
        · have := gave_some (Nat.le_refl _) he hp (Fx.refl X w) hgX hw hXr hBX hBg hgl
          rw [List.take_length] at this
          rw [(SS.fin_ok he hbad).1, (SS.fin_ok he hbad).2]
          exact this
    clear hw HRW hs hq h1 hO hBg hL hX hXr he hl hgl hh hil hol hBX hgX CA
    go_enter Tryz.func11, Tryz.ntmps11
    go_wp2_with fail
    refine CF.out.mono ?_
    rintro e w1 ⟨rfl, rfl⟩
    go_wp2_with fail
    refine CGV.out.mono ?_
    rintro e w2 hp
    have HP := Lib.hid hp
    obtain ⟨_, D, d2, rfl, -⟩ := hp
    generalize s.last.length = tl at *
    go_wp2_with fail
    go_ret2
    exact HP.out

set_option maxRecDepth 100000 in
theorem write_nil10 (w : World) (A : Option Addr) (n d : Nat) : Calls Tryz.prog 9 #[.pointer none, .slice A n d] w fun e w' => ∃ v, e = .returned (.tuple #[v, .int .i64 1]) ∧ Up w w' := by
  go_enter Tryz.func9, Tryz.ntmps9
  go_wp2_with fail
  refine (failed_nil w).mono ?_
  rintro e w1 ⟨rfl, rfl⟩
  go_wp2_with fail
  go_ret2
  exact ⟨_, rfl, Up.refl _⟩
set_option maxRecDepth 100000 in
theorem end_nil10 (w : World) : Calls Tryz.prog 11 #[.pointer none] w fun e w' => ∃ v, e = .returned (.tuple #[v, .int .i64 1]) ∧ Up w w' := by
  go_enter Tryz.func11, Tryz.ntmps11
  go_wp2_with fail
  refine (failed_nil w).mono ?_
  rintro e w1 ⟨rfl, rfl⟩
  go_wp2_with fail
  go_ret2
  exact ⟨_, rfl, Up.refl _⟩

theorem stream_ok : StreamOk HRows RepS where
  stay := fun X Y w w' g s h hf hX => h.stay hf hX
  lt := fun X w g s h => h.lt
  new := fun w hw => new_code10 w hw
  from_ := fun w s hw hs hh he ho hz => from_code10 w s hw hs hh he ho hz
  from_no := fun w a b c d _ hno _ _ h1 h2 h3 h4 => from_no10 w a b c d hno h1 h2 h3 h4
  write := fun X w g s q A n d b hw hR hs hq hb hn hoff => write_code10 X w g s q A n d b hw hR hs hq hb hn hoff
  fin := fun X w g s q hw hR hs hq => end_code10 X w g s q hw hR hs hq
  mark := fun X w g s h => mark_code10 X w g s h
  held := fun X w g s h => held_code10 X w g s h
  write_nil := write_nil10
  fin_nil := end_nil10
  mark_nil := mark_nil10
  held_nil := held_nil10
theorem text_ok : TextOk HRows := fun A n d l w hw hr hn hm => ntext_prog A n d l w hw hr hn hm
end Go.Proofs.YtipemmjbgegmfaaGreatDoor
