/- (*Scan).take: the next byte. Written by program (wip/tools/tk.py). -/
import Derived.Test.YtdkegfookbgicaaSt
namespace Go.Proofs.Ytdkegfookbgicaa
open Go.RowKit

/-- What take leaves. -/
def TakeP (w : World) (g k : Nat) (s : U.St) (e : Ending) (w' : World) : Prop :=
  e = .returned (.tuple #[]) ∧ ∃ k', Sc w' g k' s ∧ (k' = k ∨ w.heap.size ≤ k') ∧ Fr g k w w'

/-- The world behind the append of one byte to what is pending. -/
theorem take_app {w : World} {g k : Nat} {s : U.St} (h : Sc w g k s) (hp : s.pend.length ≤ 3) (x : UInt8) {A : Option Addr} {c : Nat}
    (ho : w.heap[g]? = some (.cells #[.int .i64 s.seen, .int .i64 s.bad, .slice A s.pend.length c] 53 (0, 0)))
    (hown : w.ownsRow 0 5 1 (.slice A s.pend.length c) s.pend.length (bs s.pend)) (hk : (Value.slice A s.pend.length c).ownBlock = none ∨ ((Value.slice A s.pend.length c).ownBlock = some k ∧ k ≠ g)) :
    ∃ b c' w2, (Builtin.append_ #[22, 22] 22 #[.slice A s.pend.length c, .slice (some ⟨w.heap.size, 0, none⟩) 1 1]).run Try.prog ((w.setCell ⟨g, 0, none⟩ (.int .i64 (s.seen + 1))).alloc (.cells #[.int .u8 (x.toNat : Int)] 5)) =
        .ok (.slice (some ⟨b, 0, none⟩) (s.pend.length + 1) c') w2 ∧
      w2.heap[g]? = some (.cells #[.int .i64 (s.seen + 1), .int .i64 s.bad, .slice A s.pend.length c] 53 (0, 0)) ∧
      w2.ownsRow 0 5 1 (.slice (some ⟨b, 0, none⟩) (s.pend.length + 1) c') (s.pend.length + 1) (bs (s.pend ++ [x])) ∧ b ≠ g ∧ (b = k ∨ w.heap.size ≤ b) ∧ b < w2.heap.size ∧ Fr g k w w2 ∧ s.pend.length + 1 ≤ c' ∧ c' ≤ 9223372036854775807 := by
  have hg := obj_lt ho
  have ho1 := obj_set ho 0 (.int .i64 (s.seen + 1))
  have hf1 := (Fr.refl g k w).setCell (p := ⟨g, 0, none⟩) (.inl rfl) (.int .i64 (s.seen + 1))
  have hown1 : (w.setCell ⟨g, 0, none⟩ (.int .i64 (s.seen + 1))).ownsRow 0 5 1 (.slice A s.pend.length c) s.pend.length (bs s.pend) :=
    own_fr hown ((Fr.refl g g w).setCell (p := ⟨g, 0, none⟩) (.inl rfl) (.int .i64 (s.seen + 1))) (fun b hb => by
      rcases hk with hk | ⟨hk, hne⟩
      · rw [hk] at hb; cases hb
      · rw [hk] at hb; injection hb with e; omega)
  have hsz : (w.setCell ⟨g, 0, none⟩ (.int .i64 (s.seen + 1))).heap.size = w.heap.size := by simp [World.setCell]
  generalize w.setCell ⟨g, 0, none⟩ (.int .i64 (s.seen + 1)) = w1 at *
  have hr := Rd.new w1 #[.int .u8 (x.toNat : Int)] 5 (n := 1) (xs := bs [x]) rfl rfl (by unfold maxLen; omega)
  rw [hsz] at hr
  obtain ⟨v', w2, hrun, hown2, hgr, hb⟩ := elB.app (w1.alloc (.cells #[.int .u8 (x.toNat : Int)] 5)) 22 (m := 1) (hown1.alloc _) hr rfl (one_bs _) (by omega) (by decide) (Nat.zero_le _)
  rw [← bs_append] at hown2
  have hlt := hown2.lt
  rcases hown2.2 with ⟨_, h0⟩ | ⟨b, c', cur, rfl, hb0, hbg, hnc, hcm, _⟩
  · omega
  unfold maxLen at hcm
  have hbk : b ≠ g ∧ (b = k ∨ w.heap.size ≤ b) := by
    rcases hb with hb | hb
    · rcases hk with hk | ⟨hk, hne⟩
      · rw [hk] at hb; cases hb
      · rw [hk] at hb
        have e : b = k := Option.some.inj hb
        omega
    · have e : b = _ := Option.some.inj hb
      have : (w1.alloc (.cells #[.int .u8 (x.toNat : Int)] 5)).heap.size = w1.heap.size + 1 := by simp
      omega
  have hgrow : ∀ i, (Value.slice A s.pend.length c).ownBlock = some i → i = g ∨ i = k ∨ w.heap.size ≤ i := fun i hi => by
    rcases hk with hk | ⟨hk, hne⟩
    · rw [hk] at hi; cases hi
    · rw [hk] at hi; injection hi with e; omega
  refine ⟨b, c', w2, hrun, ?_, hown2, hbk.1, hbk.2, (hlt b rfl).2, (hf1.alloc _).grown hgr hgrow, hnc, by omega⟩
  rw [hgr.block g (by simp; omega) (fun e => by
    rcases hk with hk | ⟨hk, hne⟩
    · rw [hk] at e; cases e
    · rw [hk] at e; injection e with e; omega)]
  rw [heap_alloc_old w1 _ (by omega)]
  exact ho1

set_option maxRecDepth 100000 in
theorem take_bad {w : World} {g k : Nat} {s : U.St} (h : Sc w g k s) (hb : 0 ≤ s.bad) (h0 : 0 ≤ s.seen) (h1 : s.seen < 1099511627776) (x : UInt8) :
    Calls Try.prog 29 #[.pointer (some ⟨g, 0, none⟩), .int .u8 (x.toNat : Int)] w (TakeP w g k (s.step x)) := by
  obtain ⟨A, c, hr, ho, hown, hk⟩ := h.pend
  have hkl := h.klt
  have hs : s.step x = ⟨s.seen + 1, s.bad, s.pend⟩ := by unfold U.St.step; rw [if_pos hb]
  rw [hs]
  clear hs
  obtain ⟨seen, bad, pend⟩ := s
  simp only at *
  have c0 : w.cell? ⟨g, 0, none⟩ = some (.int .i64 seen) := obj_cell ho 0
  have c1 : w.cell? ⟨g, 1, none⟩ = some (.int .i64 bad) := obj_cell ho 1
  have f0 := obj_frozen ho 0
  have HO := Lib.hid ho
  clear ho h hr
  go_enter Try.func29, Try.ntmps29
  go_wp2_with fail
  go_end0
  have hf1 := (Fr.refl g k w).setCell (p := ⟨g, 0, none⟩) (.inl rfl) (.int .i64 (seen + 1))
  refine ⟨rfl, k, ⟨⟨_, obj_set HO.out 0 _, own_fr hown ((Fr.refl g g w).setCell (p := ⟨g, 0, none⟩) (.inl rfl) (.int .i64 (seen + 1))) (fun b hb => ?_), hk⟩, by simpa [World.setCell] using hkl⟩, .inl rfl, hf1⟩
  rcases hk with hk | ⟨hk, hne⟩
  · rw [hk] at hb; cases hb
  · rw [hk] at hb; injection hb with e; omega

theorem own_zero {w : World} {base b c n : Nat} {e : TypeId} {xs : List Value} (h : w.ownsRow base e 1 (.slice (some ⟨b, 0, none⟩) n c) n xs) : w.ownsRow base e 1 (.slice (some ⟨b, 0, none⟩) 0 c) 0 [] := by
  rcases h.2 with ⟨h0, _⟩ | ⟨g, cap, cur, h1, h2, h3, h4, h5, h6, _⟩
  · cases h0
  · injection h1 with e1 e2 e3
    injection e1 with e1
    injection e1 with e1
    subst e1 e3
    exact ⟨by simp, .inr ⟨_, _, cur, rfl, h2, h3, by omega, h5, h6, by simp⟩⟩

set_option maxRecDepth 100000 in
theorem take_one {w : World} {g k : Nat} {s : U.St} (h : Sc w g k s) (hb : s.bad < 0) (hp : s.pend.length ≤ 3) (h0 : 0 ≤ s.seen) (h1 : s.seen < 1099511627776) (x : UInt8) (hone : 0 < (U.one (s.pend ++ [x])).2) :
    Calls Try.prog 29 #[.pointer (some ⟨g, 0, none⟩), .int .u8 (x.toNat : Int)] w (TakeP w g k (s.step x)) := by
  obtain ⟨A, c, hr, ho, hown, hk⟩ := h.pend
  have hkl := h.klt
  have hs : s.step x = ⟨s.seen + 1, s.bad, []⟩ := by unfold U.St.step; rw [if_neg (by omega), if_pos hone]
  rw [hs]
  clear hs
  obtain ⟨b, c', w2, hrun, ho2, hown2, hbg, hbk, hblt, hf2, hn2, hc2⟩ := take_app h hp x ho hown hk
  obtain ⟨seen, bad, pend⟩ := s
  simp only at *
  generalize hn : pend.length = n at *
  have c0 : w.cell? ⟨g, 0, none⟩ = some (.int .i64 seen) := obj_cell ho 0
  have c1 : w.cell? ⟨g, 1, none⟩ = some (.int .i64 bad) := obj_cell ho 1
  have c2 : w.cell? ⟨g, 2, none⟩ = some (.slice A n c) := obj_cell ho 2
  have f0 := obj_frozen ho 0
  have d2 : w2.cell? ⟨g, 2, none⟩ = some (.slice A n c) := obj_cell ho2 2
  have g2 := obj_frozen ho2 2
  have hgl := obj_lt ho
  have HO := Lib.hid ho
  have HO2 := Lib.hid ho2
  have HRUN := Lib.hid hrun
  have HN := Lib.hid hn
  clear ho h hr ho2 hrun hn
  go_enter Try.func29, Try.ntmps29
  go_wp2_with (at_builtin; refine wpList_app rfl _ _ _ rfl rfl rfl HRUN.out ?_)
  have ho3 := obj_set HO2.out 2 (.slice (some ⟨b, 0, none⟩) (n + 1) c')
  have hf3 := hf2.setCell (p := ⟨g, 2, none⟩) (.inl rfl) (.slice (some ⟨b, 0, none⟩) (n + 1) c')
  have hown3 := own_fr hown2 ((Fr.refl g g w2).setCell (p := ⟨g, 2, none⟩) (.inl rfl) (.slice (some ⟨b, 0, none⟩) (n + 1) c')) (fun i hi => by have e : b = i := Option.some.inj hi; omega)
  have hl3 : b < (w2.setCell ⟨g, 2, none⟩ (.slice (some ⟨b, 0, none⟩) (n + 1) c')).heap.size := by simpa [World.setCell] using hblt
  generalize w2.setCell ⟨g, 2, none⟩ (.slice (some ⟨b, 0, none⟩) (n + 1) c') = w3 at *
  clear d2 g2 c0 c1 c2 f0
  obtain ⟨A3, q3, e3, hr3⟩ := own_rd hown3
  injection e3 with e4 e5 e6
  subst e4 e6
  refine (one_code _ _ (n + 1) _ w3 hr3 (by rw [List.length_append, HN.out]; rfl)).mono ?_
  rintro e w4 ⟨rfl, hu4⟩
  have ho4 := obj_up ho3 hu4
  have d0 : w4.cell? ⟨g, 0, none⟩ = some (.int .i64 (seen + 1)) := obj_cell ho4 0
  have d2 : w4.cell? ⟨g, 2, none⟩ = some (.slice (some ⟨b, 0, none⟩) (n + 1) c') := obj_cell ho4 2
  have g2 := obj_frozen ho4 2
  have HO4 := Lib.hid ho4
  have HO3 := Lib.hid ho3
  clear ho4 ho3 hr3 e5
  generalize U.one (pend ++ [x]) = o at *
  go_wp2_with fail
  go_end0
  exact ⟨rfl, b, ⟨⟨_, obj_set HO4.out 2 _, own_zero (own_fr hown3 ((Fr.of_up hu4 g g).setCell (p := ⟨g, 2, none⟩) (.inl rfl) (.slice (some ⟨b, 0, none⟩) 0 c')) (fun i hi => by have e : b = i := Option.some.inj hi; omega)), .inr ⟨rfl, hbg⟩⟩,
    by have := hu4.size; simp [World.setCell]; omega⟩, hbk, (hf3.up hu4).setCell (p := ⟨g, 2, none⟩) (.inl rfl) _⟩



set_option maxRecDepth 100000 in
theorem take_open {w : World} {g k : Nat} {s : U.St} (h : Sc w g k s) (hb : s.bad < 0) (hp : s.pend.length ≤ 3) (h0 : 0 ≤ s.seen) (h1 : s.seen < 1099511627776) (x : UInt8) (hone : ¬ 0 < (U.one (s.pend ++ [x])).2) (hopn : U.opn (s.pend ++ [x])) :
    Calls Try.prog 29 #[.pointer (some ⟨g, 0, none⟩), .int .u8 (x.toNat : Int)] w (TakeP w g k (s.step x)) := by
  obtain ⟨A, c, hr, ho, hown, hk⟩ := h.pend
  have hkl := h.klt
  have hd : decide (U.opn (s.pend ++ [x])) = true := by simpa using hopn
  have hs : s.step x = ⟨s.seen + 1, s.bad, s.pend ++ [x]⟩ := by unfold U.St.step; rw [if_neg (by omega), if_neg hone, if_pos hopn]
  rw [hs]
  clear hs
  obtain ⟨b, c', w2, hrun, ho2, hown2, hbg, hbk, hblt, hf2, hn2, hc2⟩ := take_app h hp x ho hown hk
  obtain ⟨seen, bad, pend⟩ := s
  simp only at *
  generalize hn : pend.length = n at *
  have c0 : w.cell? ⟨g, 0, none⟩ = some (.int .i64 seen) := obj_cell ho 0
  have c1 : w.cell? ⟨g, 1, none⟩ = some (.int .i64 bad) := obj_cell ho 1
  have c2 : w.cell? ⟨g, 2, none⟩ = some (.slice A n c) := obj_cell ho 2
  have f0 := obj_frozen ho 0
  have d2 : w2.cell? ⟨g, 2, none⟩ = some (.slice A n c) := obj_cell ho2 2
  have g2 := obj_frozen ho2 2
  have hgl := obj_lt ho
  have HO := Lib.hid ho
  have HO2 := Lib.hid ho2
  have HRUN := Lib.hid hrun
  have HN := Lib.hid hn
  have HD := Lib.hid hd
  clear ho h hr ho2 hrun hn hd
  go_enter Try.func29, Try.ntmps29
  go_wp2_with (at_builtin; refine wpList_app rfl _ _ _ rfl rfl rfl HRUN.out ?_)
  have ho3 := obj_set HO2.out 2 (.slice (some ⟨b, 0, none⟩) (n + 1) c')
  have hf3 := hf2.setCell (p := ⟨g, 2, none⟩) (.inl rfl) (.slice (some ⟨b, 0, none⟩) (n + 1) c')
  have hown3 := own_fr hown2 ((Fr.refl g g w2).setCell (p := ⟨g, 2, none⟩) (.inl rfl) (.slice (some ⟨b, 0, none⟩) (n + 1) c')) (fun i hi => by have e : b = i := Option.some.inj hi; omega)
  have hl3 : b < (w2.setCell ⟨g, 2, none⟩ (.slice (some ⟨b, 0, none⟩) (n + 1) c')).heap.size := by simpa [World.setCell] using hblt
  generalize w2.setCell ⟨g, 2, none⟩ (.slice (some ⟨b, 0, none⟩) (n + 1) c') = w3 at *
  clear d2 g2 c0 c1 c2 f0
  obtain ⟨A3, q3, e3, hr3⟩ := own_rd hown3
  injection e3 with e4 e5 e6
  subst e4 e6
  refine (one_code _ _ (n + 1) _ w3 hr3 (by rw [List.length_append, HN.out]; rfl)).mono ?_
  rintro e w4 ⟨rfl, hu4⟩
  have ho4 := obj_up ho3 hu4
  have d0 : w4.cell? ⟨g, 0, none⟩ = some (.int .i64 (seen + 1)) := obj_cell ho4 0
  have d2 : w4.cell? ⟨g, 2, none⟩ = some (.slice (some ⟨b, 0, none⟩) (n + 1) c') := obj_cell ho4 2
  have g2 := obj_frozen ho4 2
  have HO4 := Lib.hid ho4
  have HO3 := Lib.hid ho3
  have HR3 := Lib.hid hr3
  clear ho4 ho3 hr3 e5
  have hz : (U.one (pend ++ [x])).2 ≤ 0 := by omega
  clear hone
  have hop := open_code (some ⟨b, 0, none⟩) c' (n + 1) (pend ++ [x]) w4 (HR3.out.up hu4) (by rw [List.length_append, HN.out]; rfl)
  rw [HD.out] at hop
  generalize U.one (pend ++ [x]) = o at *
  go_wp2_with fail
  refine hop.mono ?_
  rintro e w5 ⟨rfl, hu5⟩
  have hu6 := hu4.trans hu5
  have ho5 := obj_up HO4.out hu5
  clear hop
  go_wp2_with fail
  go_end0
  refine ⟨rfl, b, ⟨⟨_, ho5, ?_, .inr ⟨rfl, hbg⟩⟩, by have := hu6.size; omega⟩, hbk, hf3.up hu6⟩
  have := own_fr hown3 (Fr.of_up hu6 g g) (fun i hi => by have e : b = i := Option.some.inj hi; omega)
  rw [show (pend ++ [x]).length = n + 1 by rw [List.length_append, HN.out]; rfl]
  exact this



set_option maxRecDepth 100000 in
theorem take_fault {w : World} {g k : Nat} {s : U.St} (h : Sc w g k s) (hb : s.bad < 0) (hp : s.pend.length ≤ 3) (h0 : 0 ≤ s.seen) (h1 : s.seen < 1099511627776) (x : UInt8) (hone : ¬ 0 < (U.one (s.pend ++ [x])).2) (hopn : ¬ U.opn (s.pend ++ [x])) :
    Calls Try.prog 29 #[.pointer (some ⟨g, 0, none⟩), .int .u8 (x.toNat : Int)] w (TakeP w g k (s.step x)) := by
  obtain ⟨A, c, hr, ho, hown, hk⟩ := h.pend
  have hkl := h.klt
  have hd : decide (U.opn (s.pend ++ [x])) = false := by simpa using hopn
  have hs : s.step x = ⟨s.seen + 1, s.seen + 1 - ((s.pend.length + 1 : Nat) : Int), []⟩ := by unfold U.St.step; rw [if_neg (by omega), if_neg hone, if_neg hopn, List.length_append, List.length_singleton]
  rw [hs]
  clear hs
  obtain ⟨b, c', w2, hrun, ho2, hown2, hbg, hbk, hblt, hf2, hn2, hc2⟩ := take_app h hp x ho hown hk
  obtain ⟨seen, bad, pend⟩ := s
  simp only at *
  generalize hn : pend.length = n at *
  have c0 : w.cell? ⟨g, 0, none⟩ = some (.int .i64 seen) := obj_cell ho 0
  have c1 : w.cell? ⟨g, 1, none⟩ = some (.int .i64 bad) := obj_cell ho 1
  have c2 : w.cell? ⟨g, 2, none⟩ = some (.slice A n c) := obj_cell ho 2
  have f0 := obj_frozen ho 0
  have d2 : w2.cell? ⟨g, 2, none⟩ = some (.slice A n c) := obj_cell ho2 2
  have g2 := obj_frozen ho2 2
  have hgl := obj_lt ho
  have HO := Lib.hid ho
  have HO2 := Lib.hid ho2
  have HRUN := Lib.hid hrun
  have HN := Lib.hid hn
  have HD := Lib.hid hd
  clear ho h hr ho2 hrun hn hd
  go_enter Try.func29, Try.ntmps29
  go_wp2_with (at_builtin; refine wpList_app rfl _ _ _ rfl rfl rfl HRUN.out ?_)
  have ho3 := obj_set HO2.out 2 (.slice (some ⟨b, 0, none⟩) (n + 1) c')
  have hf3 := hf2.setCell (p := ⟨g, 2, none⟩) (.inl rfl) (.slice (some ⟨b, 0, none⟩) (n + 1) c')
  have hown3 := own_fr hown2 ((Fr.refl g g w2).setCell (p := ⟨g, 2, none⟩) (.inl rfl) (.slice (some ⟨b, 0, none⟩) (n + 1) c')) (fun i hi => by have e : b = i := Option.some.inj hi; omega)
  have hl3 : b < (w2.setCell ⟨g, 2, none⟩ (.slice (some ⟨b, 0, none⟩) (n + 1) c')).heap.size := by simpa [World.setCell] using hblt
  generalize w2.setCell ⟨g, 2, none⟩ (.slice (some ⟨b, 0, none⟩) (n + 1) c') = w3 at *
  clear d2 g2 c0 c1 c2 f0
  obtain ⟨A3, q3, e3, hr3⟩ := own_rd hown3
  injection e3 with e4 e5 e6
  subst e4 e6
  refine (one_code _ _ (n + 1) _ w3 hr3 (by rw [List.length_append, HN.out]; rfl)).mono ?_
  rintro e w4 ⟨rfl, hu4⟩
  have ho4 := obj_up ho3 hu4
  have d0 : w4.cell? ⟨g, 0, none⟩ = some (.int .i64 (seen + 1)) := obj_cell ho4 0
  have d2 : w4.cell? ⟨g, 2, none⟩ = some (.slice (some ⟨b, 0, none⟩) (n + 1) c') := obj_cell ho4 2
  have g2 := obj_frozen ho4 2
  have HO4 := Lib.hid ho4
  have HO3 := Lib.hid ho3
  have HR3 := Lib.hid hr3
  clear ho4 ho3 hr3 e5
  have hz : (U.one (pend ++ [x])).2 ≤ 0 := by omega
  clear hone
  have hop := open_code (some ⟨b, 0, none⟩) c' (n + 1) (pend ++ [x]) w4 (HR3.out.up hu4) (by rw [List.length_append, HN.out]; rfl)
  rw [HD.out] at hop
  generalize U.one (pend ++ [x]) = o at *
  go_wp2_with fail
  refine hop.mono ?_
  rintro e w5 ⟨rfl, hu5⟩
  have hu6 := hu4.trans hu5
  have ho5 := obj_up HO4.out hu5
  clear hop
  have e0 : w5.cell? ⟨g, 0, none⟩ = some (.int .i64 (seen + 1)) := obj_cell ho5 0
  have e1 : w5.cell? ⟨g, 1, none⟩ = some (.int .i64 bad) := obj_cell ho5 1
  have e2 : w5.cell? ⟨g, 2, none⟩ = some (.slice (some ⟨b, 0, none⟩) (n + 1) c') := obj_cell ho5 2
  have q1 := obj_frozen ho5 1
  have q2 := obj_frozen ho5 2
  go_wp2_with fail
  go_region
  go_wp2_with fail
  go_end0
  refine ⟨rfl, k, ⟨⟨_, obj_set (obj_set ho5 1 _) 2 _, World.ownsRow_nil _ _ _ _, .inl rfl⟩, by have := hu6.size; have := hf3.size; simp [World.setCell]; omega⟩, .inl rfl, ?_⟩
  exact (((hf3.up hu6).setCell (p := ⟨g, 1, none⟩) (.inl rfl) _).up (Up.refl _).drew).setCell (p := ⟨g, 2, none⟩) (.inl rfl) _



theorem take_code {w : World} {g k : Nat} {s : U.St} (h : Sc w g k s) (hp : s.pend.length ≤ 3) (h0 : 0 ≤ s.seen) (h1 : s.seen < 1099511627776) (x : UInt8) :
    Calls Try.prog 29 #[.pointer (some ⟨g, 0, none⟩), .int .u8 (x.toNat : Int)] w (TakeP w g k (s.step x)) := by
  by_cases hb : 0 ≤ s.bad
  · exact take_bad h hb h0 h1 x
  by_cases hone : 0 < (U.one (s.pend ++ [x])).2
  · exact take_one h (by omega) hp h0 h1 x hone
  by_cases hopn : U.opn (s.pend ++ [x])
  · exact take_open h (by omega) hp h0 h1 x hone hopn
  · exact take_fault h (by omega) hp h0 h1 x hone hopn

end Go.Proofs.Ytdkegfookbgicaa
