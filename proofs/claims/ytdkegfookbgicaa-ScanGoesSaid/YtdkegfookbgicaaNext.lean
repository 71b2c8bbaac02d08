/- The document's Next. -/
import Derived.Test.YtdkegfookbgicaaOf
namespace Go.Proofs.Ytdkegfookbgicaa
open Go.RowKit

theorem ret_cell_tmp {P : Program} {fn : Func} {p u : Tmp} {ty : TypeId} (h : fn.results = #[.cell p ty, .tmp u]) {R : Ending → World → Prop} {a : Act} {w : World} {g : Nat} {t : TypeId} {cs : Array Value} {fr : Nat × Nat} {d : TypeDesc} {x : Value}
    (hp : a.tmps.getD p undef = .pointer (some ⟨g, 0, none⟩)) (hx : a.tmps.getD u undef = x) (hg : w.heap[g]? = some (.cells cs t fr))
    (hu : P.underlying ty = some d) (hd : (match d with | .struct _ | .array _ _ => true | _ => false) = true) (hi : (P.info? ty).map (·.size) = some cs.size)
    (hdf : a.defers = []) (hR : R (.returned (.tuple #[.agg cs, x])) w) : bodyPost P fn R .ret a w := by
  refine bodyPost_ret_by ?_ hdf hR
  rw [results_cell_tmp h, hp, hx]
  simp [asAddr, Result.andThen, run_loadVar_row w g t ty cs fr d hg hu hd hi]

set_option maxRecDepth 100000 in
theorem next_range (s : U.St) (A : Option Addr) (c : Nat) (w : World) (hok : s.ok) (hnc : s.pend.length ≤ c) (B : Option Addr) (m d : Nat) (hm : m ≤ 9223372036854775807) (hrange : 1099511627776 < s.seen + m) :
    Calls Try.prog 15 #[agg s A c, .slice B m d] w fun e w' => e = .returned (.tuple #[agg s A c, .int .i64 13]) ∧ Up w w' := by
  have h0 := hok.seen0
  have h1 := hok.seen1
  unfold agg
  obtain ⟨seen, bad, pend⟩ := s
  simp only at *
  generalize pend.length = n at *
  clear hok
  go_enter Try.func15, Try.ntmps15
  go_wp2_with fail
  exact ret_cell_tmp rfl rfl rfl (heap_alloc2_new w _ _) Try.underlying29 rfl infoT rfl ⟨rfl, ((Up.refl w).alloc _).alloc _⟩

set_option maxRecDepth 100000 in
set_option maxHeartbeats 800000 in
theorem next_bad (seen bad : Int) (pend : List UInt8) (n : Nat) (Hn : Hid (pend.length = n)) (A : Option Addr) (c : Nat) (w : World) (h0 : 0 ≤ seen) (h1 : seen ≤ 1099511627776) (hn3 : n ≤ 3) (hr : Rd w A c (bs pend)) (hnc : n ≤ c) (hcm : c ≤ 9223372036854775807)
    (B : Option Addr) (m d : Nat) (l : List UInt8) (hl : Rd w B d (bs l)) (Hm : Hid (m = l.length)) (hsz : seen + m ≤ 1099511627776) (hb : 0 ≤ bad) :
    Calls Try.prog 15 #[.agg #[.int .i64 seen, .int .i64 bad, .slice A n c], .slice B m d] w fun e w' => ∃ A' c', e = .returned (.tuple #[.agg #[.int .i64 (seen + m), .int .i64 bad, .slice A' 0 c'], .int .i64 0]) ∧ Rd w' A' c' (bs []) ∧ (∀ a, A' = some a → w.heap.size ≤ a.block) ∧ Up w w' := by
  obtain ⟨w0, hw0⟩ : ∃ w0, (w.alloc (.cells #[.int .i64 seen, .int .i64 bad, .slice A n c] 29)).alloc (.cells #[.int .i64 0, .int .i64 0, .slice none 0 0] 29) = w0 := ⟨_, rfl⟩
  have hu0 : Up w w0 := by rw [← hw0]; exact ((Up.refl w).alloc _).alloc _
  have o2 : w0.heap[w.heap.size]? = some (.cells #[.int .i64 seen, .int .i64 bad, .slice A n c] 29 (0, 0)) := by rw [← hw0]; exact heap_alloc2_old w _ _
  have o4 : w0.heap[w.heap.size + 1]? = some (.cells #[.int .i64 0, .int .i64 0, .slice none 0 0] 29 (0, 0)) := by rw [← hw0]; exact heap_alloc2_new w _ _
  have b0 := obj_cell o2 0
  have b2 := obj_cell o2 2
  simp only [List.getElem?_toArray, List.getElem?_cons_zero, List.getElem?_cons_succ] at b0 b2
  have hg2 := obj_lt o2
  have hg4 := obj_lt o4
  obtain ⟨A1, q1, w1, A2, q2, w2, r1, r2, hrd2, _, _, hu2, _⟩ := two_app w0 (hr.up hu0) Hn.out.symm (hl.up hu0) Hm.out (by omega)
  have Q1 := Lib.hid r1
  have Q2 := Lib.hid r2
  have huw := hu0.trans hu2
  have o22 := obj_up o2 hu2
  have o42 := obj_up o4 hu2
  have HRD2 := Lib.hid hrd2
  clear r1 r2 hr hl o2 o4 hrd2
  have c0 := obj_cell o22 0
  have c1 := obj_cell o22 1
  have d0 := obj_cell o42 0
  have d1 := obj_cell o42 1
  have d2 := obj_cell o42 2
  simp only [List.getElem?_toArray, List.getElem?_cons_zero, List.getElem?_cons_succ] at c0 c1 d0 d1 d2
  have g0 := obj_frozen o42 0
  have g1 := obj_frozen o42 1
  have g2 := obj_frozen o42 2
  have O4 := Lib.hid o42
  clear o22 o42
  go_enter Try.func15, Try.ntmps15
  have tok : True := trivial
  go_wp2_with (first | (at_builtin; have _t := tok; refine wpList_app rfl _ _ _ rfl rfl rfl Q1.out ?_; clear tok) | (at_builtin; refine wpList_app rfl _ _ _ rfl rfl rfl Q2.out ?_))
  refine ret_cell_tmp rfl rfl rfl (obj_set3 O4.out _ _ _) Try.underlying29 rfl infoT rfl ⟨none, 0, rfl, Rd.empty _, (fun a ha => by cases ha), huw.fr (fr_set3 w2 (w.heap.size + 1) _ _ _) (by omega) (by omega)⟩


set_option maxRecDepth 100000 in
set_option maxHeartbeats 800000 in
theorem next_fault (seen bad : Int) (pend : List UInt8) (n : Nat) (Hn : Hid (pend.length = n)) (A : Option Addr) (c : Nat) (w : World) (h0 : 0 ≤ seen) (h1 : seen ≤ 1099511627776) (hn3 : n ≤ 3) (hr : Rd w A c (bs pend)) (hnc : n ≤ c) (hcm : c ≤ 9223372036854775807)
    (B : Option Addr) (m d : Nat) (l : List UInt8) (hl : Rd w B d (bs l)) (Hm : Hid (m = l.length)) (hsz : seen + m ≤ 1099511627776) (hb : bad < 0) (o : U.St) (Ho : Hid (U.St.of (pend ++ l) = o)) (Hos : Hid (o.seen = (n : Int) + m)) (ho : 0 ≤ o.bad) (hob : o.bad ≤ 1099511627780) (hns : (n : Int) ≤ seen) :
    Calls Try.prog 15 #[.agg #[.int .i64 seen, .int .i64 bad, .slice A n c], .slice B m d] w fun e w' => ∃ A' c', e = .returned (.tuple #[.agg #[.int .i64 (seen + m), .int .i64 (o.bad + (seen - n)), .slice A' o.pend.length c'], .int .i64 0]) ∧ Rd w' A' c' (bs o.pend) ∧ (∀ a, A' = some a → w.heap.size ≤ a.block) ∧ Up w w' := by
  obtain ⟨w0, hw0⟩ : ∃ w0, (w.alloc (.cells #[.int .i64 seen, .int .i64 bad, .slice A n c] 29)).alloc (.cells #[.int .i64 0, .int .i64 0, .slice none 0 0] 29) = w0 := ⟨_, rfl⟩
  have hu0 : Up w w0 := by rw [← hw0]; exact ((Up.refl w).alloc _).alloc _
  have o2 : w0.heap[w.heap.size]? = some (.cells #[.int .i64 seen, .int .i64 bad, .slice A n c] 29 (0, 0)) := by rw [← hw0]; exact heap_alloc2_old w _ _
  have o4 : w0.heap[w.heap.size + 1]? = some (.cells #[.int .i64 0, .int .i64 0, .slice none 0 0] 29 (0, 0)) := by rw [← hw0]; exact heap_alloc2_new w _ _
  have b0 := obj_cell o2 0
  have b2 := obj_cell o2 2
  simp only [List.getElem?_toArray, List.getElem?_cons_zero, List.getElem?_cons_succ] at b0 b2
  have hg2 := obj_lt o2
  have hg4 := obj_lt o4
  obtain ⟨A1, q1, w1, A2, q2, w2, r1, r2, hrd2, _, _, hu2, _⟩ := two_app w0 (hr.up hu0) Hn.out.symm (hl.up hu0) Hm.out (by omega)
  have Q1 := Lib.hid r1
  have Q2 := Lib.hid r2
  have huw := hu0.trans hu2
  have o22 := obj_up o2 hu2
  have o42 := obj_up o4 hu2
  have HRD2 := Lib.hid hrd2
  clear r1 r2 hr hl o2 o4 hrd2
  have hof := of_ref A2 q2 (n + m) (pend ++ l) w2 HRD2.out (by rw [List.length_append, Hn.out, ← Hm.out]) (by omega)
  rw [Ho.out] at hof
  unfold agg at hof
  rw [Hos.out] at hof
  have c1 := obj_cell o22 1
  simp only [List.getElem?_toArray, List.getElem?_cons_zero, List.getElem?_cons_succ] at c1
  obtain ⟨os, ob, op⟩ := o
  simp only at *
  go_enter Try.func15, Try.ntmps15
  have tok : True := trivial
  go_wp2_with (first | (at_builtin; have _t := tok; refine wpList_app rfl _ _ _ rfl rfl rfl Q1.out ?_; clear tok) | (at_builtin; refine wpList_app rfl _ _ _ rfl rfl rfl Q2.out ?_))
  refine hof.mono ?_
  rintro e w3 ⟨A3, c3, rfl, hrd3, hA3, hu3⟩
  clear hof
  have hz32 := hu3.size
  have hblt : ∀ a, A3 = some a → a.block < w3.heap.size ∨ c3 = 0 := fun a ha => by
    by_cases hc : 0 < c3
    · obtain ⟨a', ha', hb⟩ := hrd3.ad hc
      rw [ha] at ha'
      injection ha' with e
      subst e
      exact .inl hb
    · exact .inr (by omega)
  have o2 := obj_up o22 hu3
  have o4 := obj_up o42 hu3
  have z2 := obj_lt o2
  have z4 := obj_lt o4
  have o7 := heap_alloc_new w3 (.cells #[.int .i64 ((n : Int) + m), .int .i64 ob, .slice A3 op.length c3] 29)
  have hu7 := (Up.refl w3).alloc (.cells #[.int .i64 ((n : Int) + m), .int .i64 ob, .slice A3 op.length c3] 29)
  obtain ⟨w4, hw4⟩ : ∃ w4, w3.alloc (.cells #[.int .i64 ((n : Int) + m), .int .i64 ob, .slice A3 op.length c3] 29) = w4 := ⟨_, rfl⟩
  rw [hw4] at o7 hu7
  have o2 := obj_up o2 hu7
  have o4 := obj_up o4 hu7
  have e0 := obj_cell o2 0
  have e2 := obj_cell o2 2
  have d0 := obj_cell o4 0
  have d1 := obj_cell o4 1
  have d2 := obj_cell o4 2
  have k0 := obj_cell o7 0
  have k1 := obj_cell o7 1
  have k2 := obj_cell o7 2
  simp only [List.getElem?_toArray, List.getElem?_cons_zero, List.getElem?_cons_succ] at e0 e2 d0 d1 d2 k0 k1 k2
  have g0 := obj_frozen o4 0
  have g1 := obj_frozen o4 1
  have g2 := obj_frozen o4 2
  have j0 := obj_frozen o7 0
  have j1 := obj_frozen o7 1
  have j2 := obj_frozen o7 2
  have huz := (huw.trans hu3).trans hu7
  have hrd4 := hrd3.up hu7
  have O4 := Lib.hid o4
  have O7 := Lib.hid o7
  have z7 := obj_lt o7
  clear o22 o42 c1 o2 o4 o7 hrd3 hu3 hu7
  go_wp2_with fail
  have hf1 := ((Fr.refl w3.heap.size w3.heap.size w4).setCell (p := ⟨w3.heap.size, 1, none⟩) (.inl rfl) (.int .i64 (ob + (seen - n)))).setCell (p := ⟨w3.heap.size, 0, none⟩) (.inl rfl) (.int .i64 ((n : Int) + m + (seen - n)))
  have hz34 := obj_lt O7.out
  have hz20 := hu2.size
  have hA : 0 < c3 → ∀ a, A3 = some a → a.block ≠ w3.heap.size ∧ a.block ≠ w.heap.size + 1 := fun hc a ha => by
    have h1 := hA3 a ha
    have h2 := hblt a ha
    omega
  have e5 : ((n : Int) + m + (seen - n)) = seen + m := by omega
  generalize ((w4.setCell ⟨w3.heap.size, 1, none⟩ (.int .i64 (ob + (seen - n)))).setCell ⟨w3.heap.size, 0, none⟩ (.int .i64 ((n : Int) + m + (seen - n)))) = w5 at *
  rw [e5]
  have hf2 := fr_set3 w5 (w.heap.size + 1) (.int .i64 (seen + m)) (.int .i64 (ob + (seen - n))) (.slice A3 op.length c3)
  have hO := obj_set3 (obj_fr O4.out hf1 (by omega) (by omega)) (.int .i64 (seen + m)) (.int .i64 (ob + (seen - n))) (.slice A3 op.length c3)
  refine ret_cell_tmp rfl rfl rfl hO Try.underlying29 rfl infoT rfl ⟨A3, c3, rfl, (hrd4.fr hf1 (fun hc a ha => ⟨(hA hc a ha).1, (hA hc a ha).1⟩)).fr hf2 (fun hc a ha => ⟨(hA hc a ha).2, (hA hc a ha).2⟩), (fun a ha => by have := hA3 a ha; omega), (huz.fr hf1 (by omega) (by omega)).fr hf2 (by omega) (by omega)⟩


set_option maxRecDepth 100000 in
set_option maxHeartbeats 800000 in
theorem next_right (seen bad : Int) (pend : List UInt8) (n : Nat) (Hn : Hid (pend.length = n)) (A : Option Addr) (c : Nat) (w : World) (h0 : 0 ≤ seen) (h1 : seen ≤ 1099511627776) (hn3 : n ≤ 3) (hr : Rd w A c (bs pend)) (hnc : n ≤ c) (hcm : c ≤ 9223372036854775807)
    (B : Option Addr) (m d : Nat) (l : List UInt8) (hl : Rd w B d (bs l)) (Hm : Hid (m = l.length)) (hsz : seen + m ≤ 1099511627776) (hb : bad < 0) (o : U.St) (Ho : Hid (U.St.of (pend ++ l) = o)) (Hos : Hid (o.seen = (n : Int) + m)) (ho : o.bad < 0) (hob : o.bad ≤ 1099511627780) (hns : (n : Int) ≤ seen) :
    Calls Try.prog 15 #[.agg #[.int .i64 seen, .int .i64 bad, .slice A n c], .slice B m d] w fun e w' => ∃ A' c', e = .returned (.tuple #[.agg #[.int .i64 (seen + m), .int .i64 (o.bad), .slice A' o.pend.length c'], .int .i64 0]) ∧ Rd w' A' c' (bs o.pend) ∧ (∀ a, A' = some a → w.heap.size ≤ a.block) ∧ Up w w' := by
  obtain ⟨w0, hw0⟩ : ∃ w0, (w.alloc (.cells #[.int .i64 seen, .int .i64 bad, .slice A n c] 29)).alloc (.cells #[.int .i64 0, .int .i64 0, .slice none 0 0] 29) = w0 := ⟨_, rfl⟩
  have hu0 : Up w w0 := by rw [← hw0]; exact ((Up.refl w).alloc _).alloc _
  have o2 : w0.heap[w.heap.size]? = some (.cells #[.int .i64 seen, .int .i64 bad, .slice A n c] 29 (0, 0)) := by rw [← hw0]; exact heap_alloc2_old w _ _
  have o4 : w0.heap[w.heap.size + 1]? = some (.cells #[.int .i64 0, .int .i64 0, .slice none 0 0] 29 (0, 0)) := by rw [← hw0]; exact heap_alloc2_new w _ _
  have b0 := obj_cell o2 0
  have b2 := obj_cell o2 2
  simp only [List.getElem?_toArray, List.getElem?_cons_zero, List.getElem?_cons_succ] at b0 b2
  have hg2 := obj_lt o2
  have hg4 := obj_lt o4
  obtain ⟨A1, q1, w1, A2, q2, w2, r1, r2, hrd2, _, _, hu2, _⟩ := two_app w0 (hr.up hu0) Hn.out.symm (hl.up hu0) Hm.out (by omega)
  have Q1 := Lib.hid r1
  have Q2 := Lib.hid r2
  have huw := hu0.trans hu2
  have o22 := obj_up o2 hu2
  have o42 := obj_up o4 hu2
  have HRD2 := Lib.hid hrd2
  clear r1 r2 hr hl o2 o4 hrd2
  have hof := of_ref A2 q2 (n + m) (pend ++ l) w2 HRD2.out (by rw [List.length_append, Hn.out, ← Hm.out]) (by omega)
  rw [Ho.out] at hof
  unfold agg at hof
  rw [Hos.out] at hof
  have c1 := obj_cell o22 1
  simp only [List.getElem?_toArray, List.getElem?_cons_zero, List.getElem?_cons_succ] at c1
  obtain ⟨os, ob, op⟩ := o
  simp only at *
  go_enter Try.func15, Try.ntmps15
  have tok : True := trivial
  go_wp2_with (first | (at_builtin; have _t := tok; refine wpList_app rfl _ _ _ rfl rfl rfl Q1.out ?_; clear tok) | (at_builtin; refine wpList_app rfl _ _ _ rfl rfl rfl Q2.out ?_))
  refine hof.mono ?_
  rintro e w3 ⟨A3, c3, rfl, hrd3, hA3, hu3⟩
  clear hof
  have hz32 := hu3.size
  have hblt : ∀ a, A3 = some a → a.block < w3.heap.size ∨ c3 = 0 := fun a ha => by
    by_cases hc : 0 < c3
    · obtain ⟨a', ha', hb⟩ := hrd3.ad hc
      rw [ha] at ha'
      injection ha' with e
      subst e
      exact .inl hb
    · exact .inr (by omega)
  have o2 := obj_up o22 hu3
  have o4 := obj_up o42 hu3
  have z2 := obj_lt o2
  have z4 := obj_lt o4
  have o7 := heap_alloc_new w3 (.cells #[.int .i64 ((n : Int) + m), .int .i64 ob, .slice A3 op.length c3] 29)
  have hu7 := (Up.refl w3).alloc (.cells #[.int .i64 ((n : Int) + m), .int .i64 ob, .slice A3 op.length c3] 29)
  obtain ⟨w4, hw4⟩ : ∃ w4, w3.alloc (.cells #[.int .i64 ((n : Int) + m), .int .i64 ob, .slice A3 op.length c3] 29) = w4 := ⟨_, rfl⟩
  rw [hw4] at o7 hu7
  have o2 := obj_up o2 hu7
  have o4 := obj_up o4 hu7
  have e0 := obj_cell o2 0
  have e2 := obj_cell o2 2
  have d0 := obj_cell o4 0
  have d1 := obj_cell o4 1
  have d2 := obj_cell o4 2
  have k0 := obj_cell o7 0
  have k1 := obj_cell o7 1
  have k2 := obj_cell o7 2
  simp only [List.getElem?_toArray, List.getElem?_cons_zero, List.getElem?_cons_succ] at e0 e2 d0 d1 d2 k0 k1 k2
  have g0 := obj_frozen o4 0
  have g1 := obj_frozen o4 1
  have g2 := obj_frozen o4 2
  have j0 := obj_frozen o7 0
  have j1 := obj_frozen o7 1
  have j2 := obj_frozen o7 2
  have huz := (huw.trans hu3).trans hu7
  have hrd4 := hrd3.up hu7
  have O4 := Lib.hid o4
  have O7 := Lib.hid o7
  have z7 := obj_lt o7
  clear o22 o42 c1 o2 o4 o7 hrd3 hu3 hu7
  go_wp2_with fail
  have hf1 := ((Fr.refl w3.heap.size w3.heap.size w4).setCell (p := ⟨w3.heap.size, 0, none⟩) (.inl rfl) (.int .i64 ((n : Int) + m + (seen - n))))
  have hz34 := obj_lt O7.out
  have hz20 := hu2.size
  have hA : 0 < c3 → ∀ a, A3 = some a → a.block ≠ w3.heap.size ∧ a.block ≠ w.heap.size + 1 := fun hc a ha => by
    have h1 := hA3 a ha
    have h2 := hblt a ha
    omega
  have e5 : ((n : Int) + m + (seen - n)) = seen + m := by omega
  generalize (w4.setCell ⟨w3.heap.size, 0, none⟩ (.int .i64 ((n : Int) + m + (seen - n)))) = w5 at *
  rw [e5]
  have hf2 := fr_set3 w5 (w.heap.size + 1) (.int .i64 (seen + m)) (.int .i64 ob) (.slice A3 op.length c3)
  have hO := obj_set3 (obj_fr O4.out hf1 (by omega) (by omega)) (.int .i64 (seen + m)) (.int .i64 ob) (.slice A3 op.length c3)
  refine ret_cell_tmp rfl rfl rfl hO Try.underlying29 rfl infoT rfl ⟨A3, c3, rfl, (hrd4.fr hf1 (fun hc a ha => ⟨(hA hc a ha).1, (hA hc a ha).1⟩)).fr hf2 (fun hc a ha => ⟨(hA hc a ha).2, (hA hc a ha).2⟩), (fun a ha => by have := hA3 a ha; omega), (huz.fr hf1 (by omega) (by omega)).fr hf2 (by omega) (by omega)⟩


end Go.Proofs.Ytdkegfookbgicaa
