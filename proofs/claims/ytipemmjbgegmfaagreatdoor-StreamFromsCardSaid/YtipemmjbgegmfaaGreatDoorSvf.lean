/- The statements of stage 10: from any mark. -/
import Derived.Test.YtipemmjbgegmfaaGreatDoorSty
import Derived.Test.YtipemmjbgegmfaaGreatDoorSth
namespace Go.Proofs.YtipemmjbgegmfaaGreatDoor
open Go.RowKit Go.Proofs.YtipemmjbgegmfaaGreatDoor.Ordr Go.Proofs.YtipemmjbgegmfaaGreatDoor.Cmpr

/-- May a stream go on from this? -/
def mayB (a b c d : Int) : Bool := decide (0 ≤ a) && decide (0 ≤ b) && decide (a ≤ 1099511627776) && decide (b ≤ 1099511627776) && (decide (0 < a) || (a == 0 && b == 0 && c == 0 && d == 0))

/-- The document's stream in a variable of the call's own, beside a stream in blocks X. -/
structure RVar (W : World) (X : Nat → Prop) (w : World) (rb : Nat) (s : SS) (A : Option Addr) (n c : Nat) : Prop where
  obj : w.heap[rb]? = some (.cells #[.int .i64 (s.inn : Int), .int .i64 (s.out : Int), .int .u32 (s.sin : Int), .int .u32 (s.sout : Int), .slice A n c, .int .i64 (s.err : Int)] 33 (0, 0))
  lo : W.heap.size ≤ rb
  off : ¬ X rb
  rd : Rd w A c (bs s.held)
  len : n = s.held.length
  offA : 0 < c → ∀ a, A = some a → ¬ X a.block ∧ a.block ≠ rb
theorem RVar.up {W : World} {X : Nat → Prop} {w w' : World} {rb : Nat} {s : SS} {A : Option Addr} {n c : Nat} (h : RVar W X w rb s A n c) (u : Up w w') : RVar W X w' rb s A n c :=
  ⟨obj_up h.obj u, h.lo, h.off, h.rd.up u, h.len, h.offA⟩
/-- Behind a call of the stream the variable is as it was. -/
theorem RVar.call {W : World} {X X' : Nat → Prop} {w w' : World} {rb : Nat} {s : SS} {A : Option Addr} {n c : Nat} (h : RVar W X w rb s A n c) (hf : Fx X w w') (hX : ∀ k, X' k → X k ∨ w.heap.size ≤ k) : RVar W X' w' rb s A n c :=
  ⟨obj_fx h.obj hf h.off, h.lo, (fun hx => by
    have := obj_lt h.obj
    rcases hX rb hx with h1 | h1
    · exact h.off h1
    · omega), Fx.rd h.rd hf (fun hc a ha => (h.offA hc a ha).1), h.len, fun hc a ha => ⟨fun hx => by
    obtain ⟨a', ha', hb⟩ := h.rd.ad hc
    rw [ha] at ha'
    injection ha' with e
    subst e
    rcases hX _ hx with h1 | h1
    · exact (h.offA hc a ha).1 h1
    · omega, (h.offA hc a ha).2⟩⟩
/-- What the document's Write or End leaves is put into the variable. -/
theorem RVar.put {W : World} {X : Nat → Prop} {w w' : World} {rb : Nat} {s s' : SS} {A A' : Option Addr} {n c n' c' : Nat} {wq : World} (h : RVar W X w rb s A n c) (hX : ∀ b, X b → b < wq.heap.size) (hwq : rb < wq.heap.size) (hn : n' = s'.held.length) (hrd : Rd w' A' c' (bs s'.held)) (hA : (A' = A ∧ c' = c) ∨ ∀ a, A' = some a → wq.heap.size ≤ a.block)
    (ho : w'.heap[rb]? = some (.cells #[.int .i64 (s'.inn : Int), .int .i64 (s'.out : Int), .int .u32 (s'.sin : Int), .int .u32 (s'.sout : Int), .slice A' n' c', .int .i64 (s'.err : Int)] 33 (0, 0))) : RVar W X w' rb s' A' n' c' :=
  ⟨ho, h.lo, h.off, hrd, hn, fun hc a ha => by
    rcases hA with ⟨rfl, rfl⟩ | hA
    · exact h.offA hc a ha
    · have h1 := hA a ha
      exact ⟨fun hx => by have := hX _ hx; omega, by omega⟩⟩

set_option maxRecDepth 100000 in
set_option maxHeartbeats 800000 in
theorem may_ref (a b c d : Int) (w : World) : Calls Tryz.prog 14 #[.agg #[.int .i64 a, .int .i64 b, .int .u32 c, .int .u32 d]] w fun e w' => e = .returned (.bool (mayB a b c d)) ∧ Up w w' := by
  have ob := heap_alloc_new w (.cells #[.int .i64 a, .int .i64 b, .int .u32 c, .int .u32 d] 30)
  have b0 := obj_cell ob 0
  have b1 := obj_cell ob 1
  have b2 := obj_cell ob 2
  have b3 := obj_cell ob 3
  simp only [List.getElem?_toArray, List.getElem?_cons_zero, List.getElem?_cons_succ] at b0 b1 b2 b3
  have me := mark_eq
  unfold mayB
  clear ob
  by_cases h1 : 0 ≤ a
  · by_cases h2 : 0 ≤ b
    · by_cases h3 : a ≤ 1099511627776
      · by_cases h4 : b ≤ 1099511627776
        · by_cases h5 : 0 < a
          all_goals
            go_enter Tryz.func14, Tryz.ntmps14
            go_wp2_with fail
            go_ret
            refine ⟨?_, (Up.refl w).alloc _⟩
            first | rfl | (simp [h1, h2, h3, h4, h5]; done) | (simp [h1, h2, h3, h4, h5]; intros; omega)
        · go_enter Tryz.func14, Tryz.ntmps14
          go_wp2_with fail
          go_ret
          exact ⟨by first | (simp [h1, h2, h3, h4]; done) | (simp [h1, h2, h3, h4]; intros; omega), (Up.refl w).alloc _⟩
      · go_enter Tryz.func14, Tryz.ntmps14
        go_wp2_with fail
        go_ret
        exact ⟨by first | (simp [h1, h2, h3]; done) | (simp [h1, h2, h3]; intros; omega), (Up.refl w).alloc _⟩
    · go_enter Tryz.func14, Tryz.ntmps14
      go_wp2_with fail
      go_ret
      exact ⟨by first | (simp [h1, h2]; done) | (simp [h1, h2]; intros; omega), (Up.refl w).alloc _⟩
  · go_enter Tryz.func14, Tryz.ntmps14
    go_wp2_with fail
    go_ret
    exact ⟨by first | (simp [h1]; done) | (simp [h1]; intros; omega), (Up.refl w).alloc _⟩

set_option maxRecDepth 100000 in
set_option maxHeartbeats 6400000 in
theorem froms_of10 {G : World → Prop} {Rep : (Nat → Prop) → World → Nat → SS → Prop} (hG : Ground G) (H : StreamOk G Rep) (W : World) (hw : G W) (ma mb : Int) (mc md : Nat) (hma : -9223372036854775808 ≤ ma ∧ ma ≤ 9223372036854775807) (hmb : -9223372036854775808 ≤ mb ∧ mb ≤ 9223372036854775807) (hmc : mc < 4294967296) (hmd : md < 4294967296)
    (O : Option Addr) (len cap : Nat) (LL : List (List UInt8)) (hlen : LL.length = len) (hlc : len ≤ cap) (hcm : cap ≤ 9223372036854775807) (hin : RowsIn W O LL) :
    Calls Tryz.prog 4 #[.agg #[.int .i64 ma, .int .i64 mb, .int .u32 (mc : Int), .int .u32 (md : Int)], .slice O len cap] W fun e w' => e = .returned (.bool true) ∧ Up W w' := by
  have AW := Lib.hid (fun w' (u : Up W w') => awake_10 hG H w' (hG _ _ hw u))
  obtain ⟨w0, hw0⟩ : ∃ w0, W.alloc (.cells #[.int .i64 ma, .int .i64 mb, .int .u32 (mc : Int), .int .u32 (md : Int)] 30) = w0 := ⟨_, rfl⟩
  have hu0 : Up W w0 := by rw [← hw0]; exact (Up.refl W).alloc _
  have ob0 : w0.heap[W.heap.size]? = some (.cells #[.int .i64 ma, .int .i64 mb, .int .u32 (mc : Int), .int .u32 (md : Int)] 30 (0, 0)) := by rw [← hw0]; exact heap_alloc_new W _
  have HB0 := Lib.hid (fun w' (u : Up w0 w') => (⟨obj_cell (obj_up ob0 u) 0, obj_cell (obj_up ob0 u) 1, obj_cell (obj_up ob0 u) 2, obj_cell (obj_up ob0 u) 3⟩ : w'.cell? ⟨W.heap.size, 0, none⟩ = some (.int .i64 ma) ∧ w'.cell? ⟨W.heap.size, 1, none⟩ = some (.int .i64 mb) ∧ w'.cell? ⟨W.heap.size, 2, none⟩ = some (.int .u32 (mc : Int)) ∧ w'.cell? ⟨W.heap.size, 3, none⟩ = some (.int .u32 (md : Int))))
  have hin0 : RowsIn w0 O LL := fun i hi => by
    obtain ⟨a, A, c, h1, h2, h3, h4⟩ := hin i hi
    exact ⟨a, A, c, h1, Nat.lt_of_lt_of_le h2 hu0.size, (Below.cell hu0 (p := a.add i) (by rw [addr_block]; exact h2)).trans h3, h4.up hu0⟩
  have cf := few_walk w0 O len cap LL hlen hlc hcm hin0
  have HMAY := Lib.hid (fun w' => may_ref ma mb mc md w')
  cases hfew : fewB LL with
  | false =>
    rw [hfew] at cf
    have CF := Lib.hid cf
    have HU0 := Lib.hid hu0
    clear cf hfew H hin hin0 hu0 ob0
    go_enter Tryz.func4, Tryz.ntmps4
    go_wp2_with (rw [hw0])
    refine CF.out.mono ?_
    rintro e w1 ⟨rfl, rfl⟩
    go_wp2_with fail
    refine (AW.out _ HU0.out).mono ?_
    rintro e w2 ⟨rfl, hu⟩
    go_wp2_with fail
    go_ret
    exact ⟨rfl, HU0.out.trans hu⟩
  | true =>
    rw [hfew] at cf
    have CF := Lib.hid cf
    by_cases hmay : 0 ≤ ma ∧ 0 ≤ mb ∧ ma ≤ 1099511627776 ∧ mb ≤ 1099511627776 ∧ (ma = 0 → mb = 0 ∧ mc = 0 ∧ md = 0)
    · obtain ⟨h1, h2, h3, h4, h5⟩ := hmay
      obtain ⟨a0, rfl⟩ := Int.eq_ofNat_of_zero_le h1
      obtain ⟨b0, rfl⟩ := Int.eq_ofNat_of_zero_le h2
      have hmt : mayB (a0 : Int) (b0 : Int) (mc : Int) (md : Int) = true := by
        unfold mayB
        simp
        omega
      have FY := Lib.hid (fun w' (u : Up W w') => H.from_ w' ⟨a0, b0, mc, md, [], 0⟩ (hG _ _ hw u) ⟨Nat.le_refl _, by show a0 + 0 ≤ _; omega, by show b0 + 16 * 0 ≤ _; omega, hmc, hmd, .inl rfl⟩ rfl rfl (by show b0 ≤ _; omega) (fun h0 => by have h0 : a0 = 0 := h0; have := h5 (by omega); exact ⟨by show b0 = 0; omega, this.2.1, this.2.2⟩))
      have HOK0 := Lib.hid (show SS.Ok ⟨a0, b0, mc, md, [], 0⟩ 0 from ⟨Nat.le_refl _, by show a0 + 0 ≤ _; omega, by show b0 + 16 * 0 ≤ _; omega, hmc, hmd, .inl rfl⟩)
      rw [hmt] at HMAY
      obtain ⟨hl60, hfl⟩ := few_yes hfew
      have HFL := Lib.hid hfl
      have HLN := Lib.hid hlen
      have HWR := Lib.hid (fun X w' g s T k (hk : k < LL.length) A c (u : Up W w') (hX : ∀ b, X b → W.heap.size ≤ b) (hR : Rep X w' g s) (hq : s.Ok T) (hT : T + LL[k].length ≤ 600) (hr : Rd W A c (bs LL[k])) =>
        H.write X w' g s T A LL[k].length c LL[k] (hG _ _ hw u) hR hq (by omega) (hr.up u) rfl (rd_apart hr hX))
      have HU := fun X w1 w2 g s (hR : Rep X w1 g s) (u : Up w1 w2) => H.up hR u
      have HSY := fun X Y w1 w2 g s (hR : Rep X w1 g s) (hf : Fx Y w1 w2) (ho : ∀ b, X b → ¬ Y b) => H.stay X Y w1 w2 g s hR hf ho
      have HLT := Lib.hid (fun X w1 g s (hR : Rep X w1 g s) => H.lt X w1 g s hR)
      have HSM := Lib.hid (fun X g s A n c w1 (hR : Rep X w1 g s) (hn : n = s.held.length) => same_walk10 H X g s A n c w1 hR hn)
      have HUH := Lib.hid HU
      have HSYH := Lib.hid HSY
      have HU0 := Lib.hid hu0
      obtain ⟨b0', b1, b2, b3⟩ := HB0.out w0 (Up.refl _)
      rw [hlen] at hl60
      clear cf hfew hfl hlen hin0 hu0 ob0 h1 h2 h3 h4 h5 hmt hma hmb hmc hmd H HU HSY
      go_enter Tryz.func4, Tryz.ntmps4
      go_wp2_with (rw [hw0])
      clear hw0
      refine CF.out.mono ?_
      rintro e w1 ⟨rfl, rfl⟩
      go_wp2_with fail
      refine (FY.out w0 HU0.out).mono ?_
      rintro e w2 ⟨X1, g, rfl, hR1, hu2, hX1⟩
      have HLT1 := Lib.hid (HLT.out X1 w2 g _ hR1)
      have HR1 := Lib.hid hR1
      have HX1 := Lib.hid hX1
      clear b0' b1 b2 b3 hR1 hX1 FY CF
      obtain ⟨b0', b1, b2, b3⟩ := HB0.out w2 hu2

      go_wp2_with fail
      refine (HMAY.out w2).mono ?_
      rintro e w3 ⟨rfl, hu3⟩
      clear b0' b1 b2 b3 HMAY
      obtain ⟨b0', b1, b2, b3⟩ := HB0.out w3 (hu2.trans hu3)
      have hU3 := HU0.out.trans (hu2.trans hu3)
      have hUA := hU3.alloc (.cells #[.int .i64 (a0 : Int), .int .i64 (b0 : Int), .int .u32 (mc : Int), .int .u32 (md : Int), .slice none 0 0, .int .i64 0] 33)
      have hV0 : RVar W X1 (w3.alloc (.cells #[.int .i64 (a0 : Int), .int .i64 (b0 : Int), .int .u32 (mc : Int), .int .u32 (md : Int), .slice none 0 0, .int .i64 0] 33)) w3.heap.size ⟨a0, b0, mc, md, [], 0⟩ none 0 0 :=
        ⟨heap_alloc_new w3 _, hU3.size, (fun hx => by have := HLT1.out _ hx; have := hu3.size; omega), Rd.empty _, rfl, (fun hc => absurd hc (by omega))⟩
      have hRA := HUH.out X1 w2 _ g _ HR1.out (hu3.alloc (.cells #[.int .i64 (a0 : Int), .int .i64 (b0 : Int), .int .u32 (mc : Int), .int .u32 (md : Int), .slice none 0 0, .int .i64 0] 33))
      have HX0 := Lib.hid (fun b hb => Nat.le_trans HU0.out.size (HX1.out b hb))
      have HI0 := Lib.hid (⟨hUA, hV0, hRA⟩ : _ ∧ _ ∧ _)
      clear hU3 hUA hV0 hRA HX1 HR1 HLT1
      go_wp2_with fail
      clear b0' b1 b2 b3
      generalize w3.alloc (.cells #[.int .i64 (a0 : Int), .int .i64 (b0 : Int), .int .u32 (mc : Int), .int .u32 (md : Int), .slice none 0 0, .int .i64 0] 33) = w4 at *
      generalize w3.heap.size = rb at *
      go_loopw [8] (fun i wr => ∃ (k q : Nat) (s : SS) (A : Option Addr) (n c : Nat) (X : Nat → Prop), k ≤ len ∧ i = .int .i64 (k : Int) ∧ Hid (q = (LL.take k).flatten.length ∧ s.Ok q ∧ Rep X wr g s ∧ (∀ b, X b → W.heap.size ≤ b) ∧ RVar W X wr rb s A n c ∧ Up W wr)) (fun i _ => len - (intOf i).toNat)
      case atStart => exact ⟨0, 0, ⟨a0, b0, mc, md, [], 0⟩, none, 0, 0, X1, Nat.zero_le _, rfl, Lib.hid ⟨rfl, HOK0.out, HI0.out.2.2, HX0.out, HI0.out.2.1, HI0.out.1⟩⟩
      case round =>
        obtain ⟨k, q, s, A, n, c, X, hk, rfl, HI⟩ := hrel
        obtain ⟨hq, hok, hR, hX, hV, hu⟩ := HI.out
        clear HI HI0 HX0 HOK0 hu2 hu3
        by_cases hlt : k < len
        · have hkl : k < LL.length := by rw [HLN.out]; exact hlt
          obtain ⟨a, Ap, cp, rfl, hab, hcell0, hrd⟩ := hin k hkl
          have hcell : wr.cell? (a.add k) = some (.slice Ap LL[k].length cp) := (Below.cell hu (p := a.add k) (by rw [addr_block]; exact hab)).trans hcell0
          have hfl := flat_le LL k hkl
          have hfs := flat_succ LL k hkl
          have hT2 : q + LL[k].length ≤ 600 := by have := HFL.out; rw [← hq] at hfl; omega
          have CW := Lib.hid (HWR.out X wr g s q k hkl Ap cp hu hX hR hok hT2 hrd)
          have HT2 := Lib.hid (show q + LL[k].length = (LL.take (k + 1)).flatten.length by rw [hfs, List.length_append, hq])
          have HOK2 := Lib.hid (hok.write LL[k])
          have HVC0 := Lib.hid (fun w' (u : Up W w') => show w'.cell? (a.add k) = some (.slice Ap LL[k].length cp) from (Below.cell u (p := a.add k) (by rw [addr_block]; exact hab)).trans hcell0)
          have hhl := hok.held
          have WR0 := Lib.hid (fun w' (hrA : Rd w' A c (bs s.held)) (u : Up W w') => write_ref s A n c w' hrA hV.len hok.err Ap LL[k].length cp LL[k] (hrd.up u) rfl (by have := hV.len; omega) (by have := hok.inn; omega) (by have := hok.out; omega) hok.sin hok.sout)
          have HV1 := Lib.hid hV
          have HXW := Lib.hid hX
          have HRB2 := Lib.hid (obj_lt hV.obj)
          unfold WrP aggR cellsR at WR0
          clear hq hok hR hV hX hfl hfs hcell0 hrd hhl HWR
          generalize s.write LL[k] = s2 at *
          generalize s.told LL[k] = tl at *
          generalize LL[k].length = m at *
          obtain ⟨nh, hnh⟩ : ∃ nh, nh = s2.held.length := ⟨_, rfl⟩
          rw [← hnh] at WR0
          have HNH := Lib.hid hnh
          clear hnh
          go_wp2_with fail
          refine CW.out.mono ?_
          intro e w3 hp
          obtain ⟨X3, B3, b3, rfl, hO3, hf3, hR3, hx3, hk3, hu3, hX3⟩ := hp.out hu HXW.out
          have hV3 := HV1.out.call hx3 hk3
          have HV := Lib.hid hV3
          have HVO := Lib.hid hV3.obj
          have HVX := Lib.hid (fun w' (u : Up w3 w') => six_cells (obj_up hV3.obj u))
          have HVC := Lib.hid (fun w' (u : Up w3 w') => HVC0.out w' (hu3.trans u))
          have WRF := Lib.hid (fun w' (u : Up w3 w') => WR0.out w' (hV3.rd.up u) (hu3.trans u))
          have HRB := Lib.hid (obj_lt hV3.obj)
          have HAL := Lib.hid (fun (hc : 0 < c) a (ha : A = some a) => show a.block < w3.heap.size from by
            obtain ⟨a', ha', hb⟩ := hV3.rd.ad hc
            rw [ha] at ha'
            injection ha' with e
            subst e
            exact hb)
          have HXL := Lib.hid (HLT.out X3 w3 g s2 hR3)
          have HR3 := Lib.hid hR3
          have HO3 := hO3
          have HU3 := Lib.hid hu3
          have HX3 := Lib.hid hX3
          have HU := HUH.out
          have HSY := HSYH.out
          clear hcell hp hO3 hf3 hx3 hk3 hX3 hV3 CW WR0 hu
          go_wp2_with fail
          refine wp_region_ot (R := fun a b => Up w3 a → Up w3 b) (.take 0 (.take 1 (.take 2 (.take 3 (.take 4 (.fork 5 (.take 6 (.take 7 (.take 8 (.take 9 (.make 10 (.make 11 (.take 12 (.take 13 .nil)))))))) 10 (.make 5 (.take 6 (.take 7 (.take 8 (.take 9 (.make 11 (.take 12 (.take 13 .nil)))))))))))))) (kept_up w3) (by kernel_rfl) (by kernel_rfl) (fun _ _ d _ _ h => by cases d <;> exact h) ?_
          have hud : Up w3 w3.drew := (Up.refl w3).drew
          have hR := HU X3 w3 w3.drew g s2 HR3.out hud
          generalize w3.drew = wd at *
          ((with_reducible apply ot_take); (focus exact rfl); (focus exact rfl); (focus (intro w' u1; obtain ⟨x0, x1, x2, x3, x4, x5⟩ := HVX.out w' (u1 hud); have xc := HVC.out w' (u1 hud); go_simp; try with_reducible rfl; done)); (try dsimp only [Act.put]); (try simp only [List.setIfInBounds_toArray, List.set_cons_succ, List.set_cons_zero]))
          ((with_reducible apply ot_take); (focus exact rfl); (focus exact rfl); (focus (intro w' u1;  go_simp; try with_reducible rfl; done)); (try dsimp only [Act.put]); (try simp only [List.setIfInBounds_toArray, List.set_cons_succ, List.set_cons_zero]))
          ((with_reducible apply ot_take); (focus exact rfl); (focus exact rfl); (focus (intro w' u1;  go_simp; try with_reducible rfl; done)); (try dsimp only [Act.put]); (try simp only [List.setIfInBounds_toArray, List.set_cons_succ, List.set_cons_zero]))
          ((with_reducible apply ot_take); (focus exact rfl); (focus exact rfl); (focus (intro w' u1;  go_simp; try with_reducible rfl; done)); (try dsimp only [Act.put]); (try simp only [List.setIfInBounds_toArray, List.set_cons_succ, List.set_cons_zero]))
          ((with_reducible apply ot_take); (focus exact rfl); (focus exact rfl); (focus (intro w' u1; obtain ⟨x0, x1, x2, x3, x4, x5⟩ := HVX.out w' (u1 hud); have xc := HVC.out w' (u1 hud); go_simp; try with_reducible rfl; done)); (try dsimp only [Act.put]); (try simp only [List.setIfInBounds_toArray, List.set_cons_succ, List.set_cons_zero]))
          refine ot_fork rfl rfl rfl rfl (fun K hK => ?_) (fun K hK => ?_)
          · go_simp
            refine (WRF.out wd hud).mono ?_
            rintro e wa0 ⟨A4, c4, D4, d4, rfl, hrdA, hrdD, hA4, hD4, hy⟩
            have huwa0 := (hud).trans hy
            refine hK.out _ _ (fun _ => huwa0) ?_
            have hR := HU X3 wd wa0 g s2 hR hy
            have hX3q := HLT.out X3 wd g s2 (HU X3 w3 wd g s2 HR3.out hud)
            have hrbq : rb < wd.heap.size := by have := HRB.out; have := (hud).size; omega
            clear hK K hy
            ((with_reducible apply ot_take); (focus exact rfl); (focus exact rfl); (focus (intro w' u1;  go_simp; try with_reducible rfl; done)); (try dsimp only [Act.put]); (try simp only [List.setIfInBounds_toArray, List.set_cons_succ, List.set_cons_zero]))
            ((with_reducible apply ot_take); (focus exact rfl); (focus exact rfl); (focus (intro w' u1;  go_simp; try with_reducible rfl; done)); (try dsimp only [Act.put]); (try simp only [List.setIfInBounds_toArray, List.set_cons_succ, List.set_cons_zero]))
            ((with_reducible apply ot_take); (focus exact rfl); (focus exact rfl); (focus (intro w' u1;  go_simp; try with_reducible rfl; done)); (try dsimp only [Act.put]); (try simp only [List.setIfInBounds_toArray, List.set_cons_succ, List.set_cons_zero]))
            ((with_reducible apply ot_take); (focus exact rfl); (focus exact rfl); (focus (intro w' u1;  go_simp; try with_reducible rfl; done)); (try dsimp only [Act.put]); (try simp only [List.setIfInBounds_toArray, List.set_cons_succ, List.set_cons_zero]))
            refine ot_make rfl rfl (fun K hK => ?_)
            go_simp
            refine hK.out _ _ (fun _ => (huwa0).alloc _) ?_
            have oV := heap_alloc_new wa0 (.cells #[.int .i64 0, .int .i64 0, .int .u32 0, .int .u32 0, .slice none 0 0, .int .i64 0] 33)
            have hy : Up wa0 (wa0.alloc (.cells #[.int .i64 0, .int .i64 0, .int .u32 0, .int .u32 0, .slice none 0 0, .int .i64 0] 33)) := (Up.refl wa0).alloc _
            have huwa1 := (huwa0).trans hy
            have hv9 : w3.heap.size ≤ wa0.heap.size := (huwa0).size
            have hR := HU X3 wa0 (wa0.alloc (.cells #[.int .i64 0, .int .i64 0, .int .u32 0, .int .u32 0, .slice none 0 0, .int .i64 0] 33)) g s2 hR hy
            have hvA : 0 < c4 → ∀ a, A4 = some a → a.block < wa0.heap.size := fun hc a ha => by obtain ⟨a', ha', hb⟩ := hrdA.ad hc; rw [ha] at ha'; injection ha' with e; subst e; exact hb
            have hvD : 0 < d4 → ∀ a, D4 = some a → a.block < wa0.heap.size := fun hc a ha => by obtain ⟨a', ha', hb⟩ := hrdD.ad hc; rw [ha] at ha'; injection ha' with e; subst e; exact hb
            have hrdA := hrdA.up hy
            have hrdD := hrdD.up hy
            generalize wa0.alloc (.cells #[.int .i64 0, .int .i64 0, .int .u32 0, .int .u32 0, .slice none 0 0, .int .i64 0] 33) = wa1 at *
            generalize wa0.heap.size = v9 at *
            clear hK K hy
            refine ot_make rfl rfl (fun K hK => ?_)
            obtain ⟨wF, hF⟩ : ∃ wF, put6 wa1 v9 (.int .i64 (s2.inn : Int)) (.int .i64 (s2.out : Int)) (.int .u32 (s2.sin : Int)) (.int .u32 (s2.sout : Int)) (.slice A4 nh c4) (.int .i64 (s2.err : Int)) = wF := ⟨_, rfl⟩
            have oF := put6_obj oV (.int .i64 (s2.inn : Int)) (.int .i64 (s2.out : Int)) (.int .u32 (s2.sin : Int)) (.int .u32 (s2.sout : Int)) (.slice A4 nh c4) (.int .i64 (s2.err : Int))
            have fF := put6_fr wa1 v9 (.int .i64 (s2.inn : Int)) (.int .i64 (s2.out : Int)) (.int .u32 (s2.sin : Int)) (.int .u32 (s2.sout : Int)) (.slice A4 nh c4) (.int .i64 (s2.err : Int))
            rw [hF] at oF fF
            unfold put6 at hF
            obtain ⟨n0, n1, n2, n3, n4, n5⟩ := six_cells oV
            obtain ⟨m0, m1, m2, m3, m4, m5⟩ := six_open oV
            have huF := (huwa1).fr fF hv9 hv9
            have zF := obj_fr (obj_up HVO.out (huwa1)) fF (by have := HRB.out; omega) (by have := HRB.out; omega)
            have hR := HSY X3 (fun b => b = v9) wa1 wF g s2 hR ⟨fF.os, fF.tape, fF.output, fF.size, fun i hi hn => fF.block i hi hn hn⟩ (fun b hb e => by have := HXL.out b hb; omega)
            have hrdA := hrdA.fr fF (fun hc a ha => by have := hvA hc a ha; omega)
            have hrdD := hrdD.fr fF (fun hc a ha => by have := hvD hc a ha; omega)
            have hOT := own_fr (own_up HO3 (huwa1)) fF (fun x hx => by have := (HO3.lt x hx).2; omega)
            go_simp
            try rw [hF]
            refine hK.out _ _ (fun _ => huF) ?_
            clear hK K n0 n1 n2 n3 n4 n5 m0 m1 m2 m3 m4 m5 hF oV fF
            ((with_reducible apply ot_take); (focus exact rfl); (focus exact rfl); (focus (intro w' u1;  go_simp; try with_reducible rfl; done)); (try dsimp only [Act.put]); (try simp only [List.setIfInBounds_toArray, List.set_cons_succ, List.set_cons_zero]))
            ((with_reducible apply ot_take); (focus exact rfl); (focus exact rfl); (focus (intro w' u1;  go_simp; try with_reducible rfl; done)); (try dsimp only [Act.put]); (try simp only [List.setIfInBounds_toArray, List.set_cons_succ, List.set_cons_zero]))
            refine ot_done ?_
            obtain ⟨x0, x1, x2, x3, x4, x5⟩ := six_cells oF
            obtain ⟨n0, n1, n2, n3, n4, n5⟩ := six_cells zF
            obtain ⟨m0, m1, m2, m3, m4, m5⟩ := six_open zF
            obtain ⟨wG, hwG⟩ : ∃ wG, put6 wF rb (.int .i64 (s2.inn : Int)) (.int .i64 (s2.out : Int)) (.int .u32 (s2.sin : Int)) (.int .u32 (s2.sout : Int)) (.slice A4 nh c4) (.int .i64 (s2.err : Int)) = wG := ⟨_, rfl⟩
            have oG := put6_obj zF (.int .i64 (s2.inn : Int)) (.int .i64 (s2.out : Int)) (.int .u32 (s2.sin : Int)) (.int .u32 (s2.sout : Int)) (.slice A4 nh c4) (.int .i64 (s2.err : Int))
            have fG := put6_fr wF rb (.int .i64 (s2.inn : Int)) (.int .i64 (s2.out : Int)) (.int .u32 (s2.sin : Int)) (.int .u32 (s2.sout : Int)) (.slice A4 nh c4) (.int .i64 (s2.err : Int))
            rw [hwG] at oG fG
            unfold put6 at hwG
            have hrdA := hrdA.fr fG (fun hc a ha => hA4.elim (fun he => by obtain ⟨e1, e2⟩ := he; subst e1 e2; have := (HV.out.offA hc a ha).2; omega) (fun h1 => by have := h1 a ha; omega))
            have hrdD := hrdD.fr fG (fun hc a ha => by have := hD4 a ha; omega)
            have hR := HSY X3 (fun b => b = rb) wF wG g s2 hR ⟨fG.os, fG.tape, fG.output, fG.size, fun i hi hn => fG.block i hi hn hn⟩ (fun b hb e => HV.out.off (e ▸ hb))
            have huG : Up W wG := (HU3.out.trans huF).fr fG HV.out.lo HV.out.lo
            have hV2 : RVar W X3 wG rb s2 A4 nh c4 := HV.out.put hX3q hrbq HNH.out hrdA hA4 oG
            have hOT := own_fr hOT fG (fun x hx => by have := (HO3.lt x hx).1; have := HRB2.out; omega)
            have sa := Rd.str (n := tl.length) (own_read hOT) rfl
            have sd := Rd.str (n := tl.length) hrdD rfl
            obtain ⟨y0, y1, y2, y3, y4, y5⟩ := six_cells oG
            have SM := Lib.hid (HSM.out X3 g s2 A4 nh c4 wG hR HNH.out)
            unfold aggR cellsR at SM
            have HR2 := Lib.hid hR
            have HV2 := Lib.hid hV2
            have HUG := Lib.hid huG
            clear hrdA hrdD hR hV2 huG hOT oF zF oG fG
            go_wp2_with (rw [hwG])
            refine SM.out.mono ?_
            rintro e wH ⟨rfl, hy⟩
            go_wp2_with fail
            go_roundw
            case rel => exact ⟨k + 1, q + m, s2, A4, nh, c4, X3, by omega, by go_num, Lib.hid ⟨HT2.out, HOK2.out, HU X3 wG wH g s2 HR2.out hy, HX3.out, HV2.out.up hy, HUG.out.trans hy⟩⟩
            case measure => simp [intOf]; omega
          · go_simp
            refine hK.out _ _ (fun _ => (hud).alloc _) ?_
            have oV := heap_alloc_new wd (.cells #[.int .i64 0, .int .i64 0, .int .u32 0, .int .u32 0, .slice none 0 0, .int .i64 0] 33)
            have hy : Up wd (wd.alloc (.cells #[.int .i64 0, .int .i64 0, .int .u32 0, .int .u32 0, .slice none 0 0, .int .i64 0] 33)) := (Up.refl wd).alloc _
            have huwa0 := (hud).trans hy
            have hv9 : w3.heap.size ≤ wd.heap.size := (hud).size
            have hR := HU X3 wd (wd.alloc (.cells #[.int .i64 0, .int .i64 0, .int .u32 0, .int .u32 0, .slice none 0 0, .int .i64 0] 33)) g s2 hR hy
            generalize wd.alloc (.cells #[.int .i64 0, .int .i64 0, .int .u32 0, .int .u32 0, .slice none 0 0, .int .i64 0] 33) = wa0 at *
            generalize wd.heap.size = v9 at *
            clear hK K hy
            refine ot_make rfl rfl (fun K hK => ?_)
            go_simp
            refine (WRF.out wa0 huwa0).mono ?_
            rintro e wa1 ⟨A4, c4, D4, d4, rfl, hrdA, hrdD, hA4, hD4, hy⟩
            have huwa1 := (huwa0).trans hy
            refine hK.out _ _ (fun _ => huwa1) ?_
            have hR := HU X3 wa0 wa1 g s2 hR hy
            have hX3q := HLT.out X3 wa0 g s2 (HU X3 w3 wa0 g s2 HR3.out huwa0)
            have hrbq : rb < wa0.heap.size := by have := HRB.out; have := (huwa0).size; omega
            have hvq : v9 < wa0.heap.size := obj_lt oV
            have oV := obj_up oV hy
            clear hK K hy
            ((with_reducible apply ot_take); (focus exact rfl); (focus exact rfl); (focus (intro w' u1;  go_simp; try with_reducible rfl; done)); (try dsimp only [Act.put]); (try simp only [List.setIfInBounds_toArray, List.set_cons_succ, List.set_cons_zero]))
            ((with_reducible apply ot_take); (focus exact rfl); (focus exact rfl); (focus (intro w' u1;  go_simp; try with_reducible rfl; done)); (try dsimp only [Act.put]); (try simp only [List.setIfInBounds_toArray, List.set_cons_succ, List.set_cons_zero]))
            ((with_reducible apply ot_take); (focus exact rfl); (focus exact rfl); (focus (intro w' u1;  go_simp; try with_reducible rfl; done)); (try dsimp only [Act.put]); (try simp only [List.setIfInBounds_toArray, List.set_cons_succ, List.set_cons_zero]))
            ((with_reducible apply ot_take); (focus exact rfl); (focus exact rfl); (focus (intro w' u1;  go_simp; try with_reducible rfl; done)); (try dsimp only [Act.put]); (try simp only [List.setIfInBounds_toArray, List.set_cons_succ, List.set_cons_zero]))
            refine ot_make rfl rfl (fun K hK => ?_)
            obtain ⟨wF, hF⟩ : ∃ wF, put6 wa1 v9 (.int .i64 (s2.inn : Int)) (.int .i64 (s2.out : Int)) (.int .u32 (s2.sin : Int)) (.int .u32 (s2.sout : Int)) (.slice A4 nh c4) (.int .i64 (s2.err : Int)) = wF := ⟨_, rfl⟩
            have oF := put6_obj oV (.int .i64 (s2.inn : Int)) (.int .i64 (s2.out : Int)) (.int .u32 (s2.sin : Int)) (.int .u32 (s2.sout : Int)) (.slice A4 nh c4) (.int .i64 (s2.err : Int))
            have fF := put6_fr wa1 v9 (.int .i64 (s2.inn : Int)) (.int .i64 (s2.out : Int)) (.int .u32 (s2.sin : Int)) (.int .u32 (s2.sout : Int)) (.slice A4 nh c4) (.int .i64 (s2.err : Int))
            rw [hF] at oF fF
            unfold put6 at hF
            obtain ⟨n0, n1, n2, n3, n4, n5⟩ := six_cells oV
            obtain ⟨m0, m1, m2, m3, m4, m5⟩ := six_open oV
            have huF := (huwa1).fr fF hv9 hv9
            have zF := obj_fr (obj_up HVO.out (huwa1)) fF (by have := HRB.out; omega) (by have := HRB.out; omega)
            have hR := HSY X3 (fun b => b = v9) wa1 wF g s2 hR ⟨fF.os, fF.tape, fF.output, fF.size, fun i hi hn => fF.block i hi hn hn⟩ (fun b hb e => by have := HXL.out b hb; omega)
            have hrdA := hrdA.fr fF (fun hc a ha => hA4.elim (fun he => by obtain ⟨e1, e2⟩ := he; subst e1 e2; have := HAL.out hc a ha; omega) (fun h1 => by have := h1 a ha; omega))
            have hrdD := hrdD.fr fF (fun hc a ha => by have := hD4 a ha; omega)
            have hOT := own_fr (own_up HO3 (huwa1)) fF (fun x hx => by have := (HO3.lt x hx).2; omega)
            go_simp
            try rw [hF]
            refine hK.out _ _ (fun _ => huF) ?_
            clear hK K n0 n1 n2 n3 n4 n5 m0 m1 m2 m3 m4 m5 hF oV fF
            ((with_reducible apply ot_take); (focus exact rfl); (focus exact rfl); (focus (intro w' u1;  go_simp; try with_reducible rfl; done)); (try dsimp only [Act.put]); (try simp only [List.setIfInBounds_toArray, List.set_cons_succ, List.set_cons_zero]))
            ((with_reducible apply ot_take); (focus exact rfl); (focus exact rfl); (focus (intro w' u1;  go_simp; try with_reducible rfl; done)); (try dsimp only [Act.put]); (try simp only [List.setIfInBounds_toArray, List.set_cons_succ, List.set_cons_zero]))
            refine ot_done ?_
            obtain ⟨x0, x1, x2, x3, x4, x5⟩ := six_cells oF
            obtain ⟨n0, n1, n2, n3, n4, n5⟩ := six_cells zF
            obtain ⟨m0, m1, m2, m3, m4, m5⟩ := six_open zF
            obtain ⟨wG, hwG⟩ : ∃ wG, put6 wF rb (.int .i64 (s2.inn : Int)) (.int .i64 (s2.out : Int)) (.int .u32 (s2.sin : Int)) (.int .u32 (s2.sout : Int)) (.slice A4 nh c4) (.int .i64 (s2.err : Int)) = wG := ⟨_, rfl⟩
            have oG := put6_obj zF (.int .i64 (s2.inn : Int)) (.int .i64 (s2.out : Int)) (.int .u32 (s2.sin : Int)) (.int .u32 (s2.sout : Int)) (.slice A4 nh c4) (.int .i64 (s2.err : Int))
            have fG := put6_fr wF rb (.int .i64 (s2.inn : Int)) (.int .i64 (s2.out : Int)) (.int .u32 (s2.sin : Int)) (.int .u32 (s2.sout : Int)) (.slice A4 nh c4) (.int .i64 (s2.err : Int))
            rw [hwG] at oG fG
            unfold put6 at hwG
            have hrdA := hrdA.fr fG (fun hc a ha => hA4.elim (fun he => by obtain ⟨e1, e2⟩ := he; subst e1 e2; have := (HV.out.offA hc a ha).2; omega) (fun h1 => by have := h1 a ha; omega))
            have hrdD := hrdD.fr fG (fun hc a ha => by have := hD4 a ha; omega)
            have hR := HSY X3 (fun b => b = rb) wF wG g s2 hR ⟨fG.os, fG.tape, fG.output, fG.size, fun i hi hn => fG.block i hi hn hn⟩ (fun b hb e => HV.out.off (e ▸ hb))
            have huG : Up W wG := (HU3.out.trans huF).fr fG HV.out.lo HV.out.lo
            have hV2 : RVar W X3 wG rb s2 A4 nh c4 := HV.out.put hX3q hrbq HNH.out hrdA hA4 oG
            have hOT := own_fr hOT fG (fun x hx => by have := (HO3.lt x hx).1; have := HRB2.out; omega)
            have sa := Rd.str (n := tl.length) (own_read hOT) rfl
            have sd := Rd.str (n := tl.length) hrdD rfl
            obtain ⟨y0, y1, y2, y3, y4, y5⟩ := six_cells oG
            have SM := Lib.hid (HSM.out X3 g s2 A4 nh c4 wG hR HNH.out)
            unfold aggR cellsR at SM
            have HR2 := Lib.hid hR
            have HV2 := Lib.hid hV2
            have HUG := Lib.hid huG
            clear hrdA hrdD hR hV2 huG hOT oF zF oG fG
            go_wp2_with (rw [hwG])
            refine SM.out.mono ?_
            rintro e wH ⟨rfl, hy⟩
            go_wp2_with fail
            go_roundw
            case rel => exact ⟨k + 1, q + m, s2, A4, nh, c4, X3, by omega, by go_num, Lib.hid ⟨HT2.out, HOK2.out, HU X3 wG wH g s2 HR2.out hy, HX3.out, HV2.out.up hy, HUG.out.trans hy⟩⟩
            case measure => simp [intOf]; omega
        · clear hin
          have y := six_cells hV.obj
          obtain ⟨y0, y1, y2, y3, y4, y5⟩ := y
          have SM := Lib.hid (HSM.out X g s A n c wr hR hV.len)
          unfold aggR cellsR at SM
          clear hq hok hR hX hV
          go_wp2_with fail
          refine SM.out.mono ?_
          rintro e w5 ⟨rfl, hy⟩
          go_wp2_with fail
          refine (AW.out _ (hu.trans hy)).mono ?_
          rintro e w6 ⟨rfl, hy2⟩
          go_wp2_with fail
          go_ret
          exact ⟨rfl, (hu.trans hy).trans hy2⟩
    -- there is none
    · have hmf : mayB ma mb mc md = false := by
        rw [Bool.eq_false_iff]
        intro hx
        apply hmay
        unfold mayB at hx
        simp at hx
        omega
      have FN := Lib.hid (fun w' (u : Up W w') => H.from_no w' ma mb mc md (hG _ _ hw u) hmay hmc hmd hma.1 hma.2 hmb.1 hmb.2)
      rw [hmf] at HMAY
      have HU0 := Lib.hid hu0
      obtain ⟨b0, b1, b2, b3⟩ := HB0.out w0 (Up.refl _)
      clear cf hfew H hin hin0 hu0 ob0 hmay hmf
      go_enter Tryz.func4, Tryz.ntmps4
      go_wp2_with (rw [hw0])
      refine CF.out.mono ?_
      rintro e w1 ⟨rfl, rfl⟩
      go_wp2_with fail
      refine (FN.out w0 HU0.out).mono ?_
      rintro e w2 ⟨rfl, hu2⟩
      clear b0 b1 b2 b3
      obtain ⟨b0, b1, b2, b3⟩ := HB0.out w2 hu2
      go_wp2_with fail
      refine (HMAY.out w2).mono ?_
      rintro e w3 ⟨rfl, hu3⟩
      go_wp2_with fail
      refine (AW.out _ (HU0.out.trans (hu2.trans hu3))).mono ?_
      rintro e w4 ⟨rfl, hu4⟩
      go_wp2_with fail
      go_ret
      exact ⟨rfl, (HU0.out.trans (hu2.trans hu3)).trans hu4⟩

end Go.Proofs.YtipemmjbgegmfaaGreatDoor
