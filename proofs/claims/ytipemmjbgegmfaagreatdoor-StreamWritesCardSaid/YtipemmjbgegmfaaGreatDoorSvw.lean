/- The statements of stage 10: any pieces, and the end behind any of them. -/
import Derived.Test.YtipemmjbgegmfaaGreatDoorSvf
namespace Go.Proofs.YtipemmjbgegmfaaGreatDoor
open Go.RowKit Go.Proofs.YtipemmjbgegmfaaGreatDoor.Ordr Go.Proofs.YtipemmjbgegmfaaGreatDoor.Cmpr

/-- A slice of bools that came in. -/
def BoolsIn (w : World) (O : Option Addr) (len : Nat) : Prop := ∀ i, i < len → ∃ a b, O = some a ∧ a.block < w.heap.size ∧ w.cell? (a.add i) = some (.bool b)

theorem own_bumpB {w : World} {base g n d : Nat} {ys : List UInt8} (h : w.ownsRow base 5 1 (.slice (some ⟨g, 0, none⟩) n d) n (bs ys)) (k : Nat) (z : Int) (hz : 0 ≤ z ∧ z < 256) :
    ∃ zs : List UInt8, zs.length = ys.length ∧ (w.setCell ⟨g, k, none⟩ (.int .u8 z)).ownsRow base 5 1 (.slice (some ⟨g, 0, none⟩) n d) n (bs zs) := by
  refine ⟨ys.set k (UInt8.ofNat z.toNat), by simp, ?_⟩
  have e : (bs ys).set k (.int .u8 z) = bs (ys.set k (UInt8.ofNat z.toNat)) := by
    unfold bs
    rw [List.map_set, U.toNat_of _ (by omega), Int.toNat_of_nonneg hz.1]
  rw [← e]
  exact (h.stored k (.int .u8 z)).1
theorem RVar.other {W : World} {X Y : Nat → Prop} {w w' : World} {rb : Nat} {s : SS} {A : Option Addr} {n c : Nat} (h : RVar W X w rb s A n c) (hf : Fx Y w w') (h1 : ¬ Y rb) (h2 : 0 < c → ∀ a, A = some a → ¬ Y a.block) : RVar W X w' rb s A n c :=
  ⟨obj_fx h.obj hf h1, h.lo, h.off, Fx.rd h.rd hf h2, h.len, h.offA⟩

set_option maxRecDepth 100000 in
set_option maxHeartbeats 6400000 in
theorem writes_of10 {G : World → Prop} {Rep : (Nat → Prop) → World → Nat → SS → Prop} (hG : Ground G) (H : StreamOk G Rep) (W : World) (hw : G W)
    (O : Option Addr) (len cap : Nat) (LL : List (List UInt8)) (hlen : LL.length = len) (hlc : len ≤ cap) (hcm : cap ≤ 9223372036854775807) (hin : RowsIn W O LL) (O2 : Option Addr) (len2 cap2 : Nat) (hbo : BoolsIn W O2 len2) (hlc2 : len2 ≤ cap2) (hcm2 : cap2 ≤ 9223372036854775807) :
    Calls Tryz.prog 3 #[.slice O len cap, .slice O2 len2 cap2] W fun e w' => e = .returned (.bool true) ∧ Up W w' := by
  have AW := Lib.hid (fun w' (u : Up W w') => awake_10 hG H w' (hG _ _ hw u))
  have cf := few_walk W O len cap LL hlen hlc hcm hin
  cases hfew : fewB LL with
  | false =>
    rw [hfew] at cf
    have CF := Lib.hid cf
    clear cf hfew H hin hbo
    go_enter Tryz.func3, Tryz.ntmps3
    go_wp2_with fail
    refine CF.out.mono ?_
    rintro e w1 ⟨rfl, rfl⟩
    go_wp2_with fail
    refine (AW.out _ (Up.refl _)).mono ?_
    rintro e w2 ⟨rfl, hu⟩
    go_wp2_with fail
    go_ret
    exact ⟨rfl, hu⟩
  | true =>
    rw [hfew] at cf
    have CF := Lib.hid cf
    obtain ⟨hl60, hfl⟩ := few_yes hfew
    have HFL := Lib.hid hfl
    have HLN := Lib.hid hlen
    have HWR := Lib.hid (fun X w' g s q A n d b (u : Up W w') (hR : Rep X w' g s) (hq : s.Ok q) (hT : q + n ≤ 2000) (hr : Rd w' A d (bs b)) (hn : n = b.length) (ha : 0 < d → ∀ a, A = some a → ¬ X a.block) => H.write X w' g s q A n d b (hG _ _ hw u) hR hq hT hr hn ha)
    have HE := Lib.hid (fun X w' g s T (u : Up W w') (hR : Rep X w' g s) (hq : s.Ok T) (hT : T ≤ 600) => H.fin X w' g s T (hG _ _ hw u) hR hq (by omega))
    have HUH := Lib.hid (fun X w1 w2 g s (hR : Rep X w1 g s) (u : Up w1 w2) => H.up hR u)
    have HSYH := Lib.hid (fun X Y w1 w2 g s (hR : Rep X w1 g s) (hf : Fx Y w1 w2) (ho : ∀ b, X b → ¬ Y b) => H.stay X Y w1 w2 g s hR hf ho)
    have HLT := Lib.hid (fun X w1 g s (hR : Rep X w1 g s) => H.lt X w1 g s hR)
    have HSM := Lib.hid (fun X g s A n c w1 (hR : Rep X w1 g s) (hn : n = s.held.length) => same_walk10 H X g s A n c w1 hR hn)
    have HN := Lib.hid (H.new W hw)
    rw [hlen] at hl60
    clear cf hfew hfl hlen H
    go_enter Tryz.func3, Tryz.ntmps3
    go_wp2_with fail
    refine CF.out.mono ?_
    rintro e w1 ⟨rfl, rfl⟩
    go_wp2_with fail
    refine HN.out.mono ?_
    rintro e w1 ⟨X1, g, rfl, hR1, hu1, hX1⟩
    have hlt1 := HLT.out X1 w1 g _ hR1
    have hUA := hu1.alloc (.cells #[.int .i64 0, .int .i64 0, .int .u32 0, .int .u32 0, .slice none 0 0, .int .i64 0] 33)
    have hV0 : RVar W X1 (w1.alloc (.cells #[.int .i64 0, .int .i64 0, .int .u32 0, .int .u32 0, .slice none 0 0, .int .i64 0] 33)) w1.heap.size SS.new none 0 0 :=
      ⟨heap_alloc_new w1 _, hu1.size, (fun hx => Nat.lt_irrefl _ (hlt1 _ hx)), Rd.empty _, rfl, (fun hc => absurd hc (by omega))⟩
    have hRA := HUH.out X1 w1 _ g _ hR1 ((Up.refl w1).alloc (.cells #[.int .i64 0, .int .i64 0, .int .u32 0, .int .u32 0, .slice none 0 0, .int .i64 0] 33))
    have SM := Lib.hid (HSM.out X1 g SS.new none 0 0 (w1.alloc (.cells #[.int .i64 0, .int .i64 0, .int .u32 0, .int .u32 0, .slice none 0 0, .int .i64 0] 33)) hRA rfl)
    have hys := six_cells hV0.obj
    obtain ⟨y0, y1, y2, y3, y4, y5⟩ := hys
    have HI0 := Lib.hid (⟨hUA, hV0, hRA, hX1⟩ : _ ∧ _ ∧ _ ∧ _)
    unfold aggR cellsR SS.new at SM
    clear hUA hV0 hRA hR1 hX1 hlt1 HN CF hu1
    go_wp2_with fail
    refine SM.out.mono ?_
    rintro e w4 ⟨rfl, hu4⟩
    have HI1 := Lib.hid (⟨HI0.out.1.trans hu4, HI0.out.2.1.up hu4, HUH.out X1 _ w4 g _ HI0.out.2.2.1 hu4, HI0.out.2.2.2⟩ : Up W w4 ∧ RVar W X1 w4 w1.heap.size SS.new none 0 0 ∧ Rep X1 w4 g SS.new ∧ ∀ k, X1 k → W.heap.size ≤ k)
    clear y0 y1 y2 y3 y4 y5 HI0 SM hu4
    go_wp2_with fail
    generalize w1.heap.size = rb at *
    go_loopw [7] (fun i wr => ∃ (k q : Nat) (s : SS) (A : Option Addr) (n c : Nat) (X : Nat → Prop), k ≤ len ∧ i = .int .i64 (k : Int) ∧ Hid (q = (LL.take k).flatten.length ∧ s.Ok q ∧ Rep X wr g s ∧ (∀ b, X b → W.heap.size ≤ b) ∧ RVar W X wr rb s A n c ∧ Up W wr)) (fun i _ => len - (intOf i).toNat)
    case atStart => exact ⟨0, 0, SS.new, none, 0, 0, X1, Nat.zero_le _, rfl, Lib.hid ⟨rfl, SS.new_ok, HI1.out.2.2.1, HI1.out.2.2.2, HI1.out.2.1, HI1.out.1⟩⟩
    case round =>
      obtain ⟨k, q, s, A, n, c, X, hk, rfl, HI⟩ := hrel
      obtain ⟨hq, hok, hR, hX, hV, hu⟩ := HI.out
      clear HI HI1
      by_cases hlt : k < len
      · have hkl : k < LL.length := by rw [HLN.out]; exact hlt
        obtain ⟨a, Ap, cp, rfl, hab, hcell0, hrd⟩ := hin k hkl
        have hfl := flat_le LL k hkl
        have hfs := flat_succ LL k hkl
        have hT2 : q + LL[k].length ≤ 600 := by have := HFL.out; rw [← hq] at hfl; omega
        have HVC0 := Lib.hid (fun w' (u : Up W w') => show w'.cell? (a.add k) = some (.slice Ap LL[k].length cp) from (Below.cell u (p := a.add k) (by rw [addr_block]; exact hab)).trans hcell0)
        have hcell := HVC0.out (wr.alloc (.cells #[] 5)) (hu.alloc _)
        obtain ⟨Bi, ci, w2, hap, hrdI, huI, hownI⟩ := elB.copy (m := LL[k].length) wr 31 (hrd.up hu) (by rw [bs_len]) (one_bs LL[k]) (by omega) (by decide)
        have hX2 := HLT.out X wr g s hR
        have hOX : Off X (.slice Bi LL[k].length ci) := Off.own hownI hX2
        have CW := Lib.hid (HWR.out X w2 g s q Bi LL[k].length ci LL[k] (hu.trans huI) (HUH.out X wr w2 g s hR huI) hok (by omega) hrdI rfl (fun hc a' ha' hx => hOX a'.block (by rw [ha']; rfl) hx))
        have HT2 := Lib.hid (show q + LL[k].length = (LL.take (k + 1)).flatten.length by rw [hfs, List.length_append, hq])
        have HOK2 := Lib.hid (hok.write LL[k])
        have hhl := hok.held
        have WR0 := Lib.hid (fun w' (hrA : Rd w' A c (bs s.held)) (u : Up W w') => write_ref s A n c w' hrA hV.len hok.err Ap LL[k].length cp LL[k] (hrd.up u) rfl (by have := hV.len; omega) (by have := hok.inn; omega) (by have := hok.out; omega) hok.sin hok.sout)
        have HV1 := Lib.hid (hV.up huI)
        have HXW := Lib.hid hX
        have HRB2 := Lib.hid (obj_lt hV.obj)
        have HRB3 := Lib.hid (show rb < w2.heap.size from Nat.lt_of_lt_of_le (obj_lt hV.obj) huI.size)
        have HRL := Lib.hid hrd
        have HSA := Lib.hid (show W.heap.size ≤ wr.heap.size from hu.size)
        have HA := Lib.hid hap
        have HOI0 := Lib.hid hownI
        have HU2 := Lib.hid (hu.trans huI)
        have HOX := Lib.hid hOX
        have HAL2 := Lib.hid (fun (hc : 0 < c) a (ha : A = some a) => show a.block < wr.heap.size from by
          obtain ⟨a', ha', hb⟩ := hV.rd.ad hc
          rw [ha] at ha'
          injection ha' with e
          subst e
          exact hb)
        unfold WrP aggR cellsR at WR0
        clear hq hok hR hV hX hfl hfs hcell0 hrd hhl HWR hap hrdI huI hownI hX2 hOX hu
        generalize s.write LL[k] = s2 at *
        generalize s.told LL[k] = tl at *
        generalize LL[k] = lk at *
        generalize hm : lk.length = m at *
        have HML := Lib.hid hm.symm
        clear hm
        obtain ⟨nh, hnh⟩ : ∃ nh, nh = s2.held.length := ⟨_, rfl⟩
        rw [← hnh] at WR0
        have HNH := Lib.hid hnh
        clear hnh
        go_wp2_with (at_builtin; refine wpList_app rfl _ _ _ rfl rfl rfl HA.out ?_)
        clear HA hcell
        refine CW.out.mono ?_
        intro e w3 hp
        obtain ⟨X3, B3, b3, rfl, hO3, hf3, hR3, hx3, hk3, hu3, hX3⟩ := hp.out HU2.out HXW.out
        have hV3 := HV1.out.call hx3 hk3
        have HV := Lib.hid hV3
        have HVO := Lib.hid hV3.obj
        have HVX := Lib.hid (fun w' (u : Up w3 w') => six_cells (obj_up hV3.obj u))
        have HVC := Lib.hid (fun w' (u : Up w3 w') => HVC0.out w' (hu3.trans u))
        have WRF := Lib.hid (fun w' (u : Up w3 w') => WR0.out w' (hV3.rd.up u) (hu3.trans u))
        have HRB := Lib.hid (obj_lt hV3.obj)
        have HAL := Lib.hid (fun (hc : 0 < c) a (ha : A = some a) => show a.block < w3.heap.size from by
          obtain ⟨a', ha', hb⟩ := hV3.rd.ad hc
          rw [ha] at ha'
          injection ha' with e
          subst e
          exact hb)
        have HXL := Lib.hid (HLT.out X3 w3 g s2 hR3)
        have HR3 := Lib.hid hR3
        have HO3 := hO3
        have HOI := own_fx HOI0.out hx3 HOX.out
        have HOF := Lib.hid (HOX.out.step HOI0.out hk3)
        have HU3 := Lib.hid hu3
        have HX3 := Lib.hid hX3
        have HU := HUH.out
        have HSY := HSYH.out
        have hcell := HVC.out w3 (Up.refl w3)
        clear hp hO3 hf3 hx3 hk3 hX3 hV3 CW WR0
        go_wp2_with fail
        clear hcell
        refine wp_region_ot (R := fun a b => Up w3 a → Up w3 b) (.take 0 (.take 1 (.take 2 (.take 3 (.take 4 (.fork 5 (.take 6 (.take 7 (.take 8 (.take 9 (.make 10 (.make 11 (.take 12 (.take 13 .nil)))))))) 10 (.make 5 (.take 6 (.take 7 (.take 8 (.take 9 (.make 11 (.take 12 (.take 13 .nil)))))))))))))) (kept_up w3) (by kernel_rfl) (by kernel_rfl) (fun _ _ d _ _ h => by cases d <;> exact h) ?_
        have hud : Up w3 w3.drew := (Up.refl w3).drew
        have hR := HU X3 w3 w3.drew g s2 HR3.out hud
        generalize w3.drew = wd at *
        ((with_reducible apply ot_take); (focus exact rfl); (focus exact rfl); (focus (intro w' u1; obtain ⟨x0, x1, x2, x3, x4, x5⟩ := HVX.out w' (u1 hud); have xc := HVC.out w' (u1 hud); go_simp; try with_reducible rfl; done)); (try dsimp only [Act.put]); (try simp only [List.setIfInBounds_toArray, List.set_cons_succ, List.set_cons_zero]))
        ((with_reducible apply ot_take); (focus exact rfl); (focus exact rfl); (focus (intro w' u1;  go_simp; try with_reducible rfl; done)); (try dsimp only [Act.put]); (try simp only [List.setIfInBounds_toArray, List.set_cons_succ, List.set_cons_zero]))
        ((with_reducible apply ot_take); (focus exact rfl); (focus exact rfl); (focus (intro w' u1;  go_simp; try with_reducible rfl; done)); (try dsimp only [Act.put]); (try simp only [List.setIfInBounds_toArray, List.set_cons_succ, List.set_cons_zero]))
        ((with_reducible apply ot_take); (focus exact rfl); (focus exact rfl); (focus (intro w' u1;  go_simp; try with_reducible rfl; done)); (try dsimp only [Act.put]); (try simp only [List.setIfInBounds_toArray, List.set_cons_succ, List.set_cons_zero]))
        ((with_reducible apply ot_take); (focus exact rfl); (focus exact rfl); (focus (intro w' u1; obtain ⟨x0, x1, x2, x3, x4, x5⟩ := HVX.out w' (u1 hud); have xc := HVC.out w' (u1 hud); go_simp; try with_reducible rfl; done)); (try dsimp only [Act.put]); (try simp only [List.setIfInBounds_toArray, List.set_cons_succ, List.set_cons_zero]))
        refine ot_fork rfl rfl rfl rfl (fun K hK => ?_) (fun K hK => ?_)
        · go_simp
          refine (WRF.out wd hud).mono ?_
          rintro e wa0 ⟨A4, c4, D4, d4, rfl, hrdA, hrdD, hA4, hD4, hy⟩
          have huwa0 := (hud).trans hy
          refine hK.out _ _ (fun _ => huwa0) ?_
          have hR := HU X3 wd wa0 g s2 hR hy
          have hX3q := HLT.out X3 wd g s2 (HU X3 w3 wd g s2 HR3.out hud)
          have hwq3 : w3.heap.size ≤ wd.heap.size := (hud).size
          have hrbq : rb < wd.heap.size := by have := HRB.out; have := (hud).size; omega
          clear hK K hy
          ((with_reducible apply ot_take); (focus exact rfl); (focus exact rfl); (focus (intro w' u1;  go_simp; try with_reducible rfl; done)); (try dsimp only [Act.put]); (try simp only [List.setIfInBounds_toArray, List.set_cons_succ, List.set_cons_zero]))
          ((with_reducible apply ot_take); (focus exact rfl); (focus exact rfl); (focus (intro w' u1;  go_simp; try with_reducible rfl; done)); (try dsimp only [Act.put]); (try simp only [List.setIfInBounds_toArray, List.set_cons_succ, List.set_cons_zero]))
          ((with_reducible apply ot_take); (focus exact rfl); (focus exact rfl); (focus (intro w' u1;  go_simp; try with_reducible rfl; done)); (try dsimp only [Act.put]); (try simp only [List.setIfInBounds_toArray, List.set_cons_succ, List.set_cons_zero]))
          ((with_reducible apply ot_take); (focus exact rfl); (focus exact rfl); (focus (intro w' u1;  go_simp; try with_reducible rfl; done)); (try dsimp only [Act.put]); (try simp only [List.setIfInBounds_toArray, List.set_cons_succ, List.set_cons_zero]))
          refine ot_make rfl rfl (fun K hK => ?_)
          go_simp
          refine hK.out _ _ (fun _ => (huwa0).alloc _) ?_
          have oV := heap_alloc_new wa0 (.cells #[.int .i64 0, .int .i64 0, .int .u32 0, .int .u32 0, .slice none 0 0, .int .i64 0] 33)
          have hy : Up wa0 (wa0.alloc (.cells #[.int .i64 0, .int .i64 0, .int .u32 0, .int .u32 0, .slice none 0 0, .int .i64 0] 33)) := (Up.refl wa0).alloc _
          have huwa1 := (huwa0).trans hy
          have hv9 : w3.heap.size ≤ wa0.heap.size := (huwa0).size
          have hR := HU X3 wa0 (wa0.alloc (.cells #[.int .i64 0, .int .i64 0, .int .u32 0, .int .u32 0, .slice none 0 0, .int .i64 0] 33)) g s2 hR hy
          have hvA : 0 < c4 → ∀ a, A4 = some a → a.block < wa0.heap.size := fun hc a ha => by obtain ⟨a', ha', hb⟩ := hrdA.ad hc; rw [ha] at ha'; injection ha' with e; subst e; exact hb
          have hvD : 0 < d4 → ∀ a, D4 = some a → a.block < wa0.heap.size := fun hc a ha => by obtain ⟨a', ha', hb⟩ := hrdD.ad hc; rw [ha] at ha'; injection ha' with e; subst e; exact hb
          have hrdA := hrdA.up hy
          have hrdD := hrdD.up hy
          generalize wa0.alloc (.cells #[.int .i64 0, .int .i64 0, .int .u32 0, .int .u32 0, .slice none 0 0, .int .i64 0] 33) = wa1 at *
          generalize wa0.heap.size = v9 at *
          clear hK K hy
          refine ot_make rfl rfl (fun K hK => ?_)
          obtain ⟨wF, hF⟩ : ∃ wF, put6 wa1 v9 (.int .i64 (s2.inn : Int)) (.int .i64 (s2.out : Int)) (.int .u32 (s2.sin : Int)) (.int .u32 (s2.sout : Int)) (.slice A4 nh c4) (.int .i64 (s2.err : Int)) = wF := ⟨_, rfl⟩
          have oF := put6_obj oV (.int .i64 (s2.inn : Int)) (.int .i64 (s2.out : Int)) (.int .u32 (s2.sin : Int)) (.int .u32 (s2.sout : Int)) (.slice A4 nh c4) (.int .i64 (s2.err : Int))
          have fF := put6_fr wa1 v9 (.int .i64 (s2.inn : Int)) (.int .i64 (s2.out : Int)) (.int .u32 (s2.sin : Int)) (.int .u32 (s2.sout : Int)) (.slice A4 nh c4) (.int .i64 (s2.err : Int))
          rw [hF] at oF fF
          unfold put6 at hF
          obtain ⟨n0, n1, n2, n3, n4, n5⟩ := six_cells oV
          obtain ⟨m0, m1, m2, m3, m4, m5⟩ := six_open oV
          have huF := (huwa1).fr fF hv9 hv9
          have zF := obj_fr (obj_up HVO.out (huwa1)) fF (by have := HRB.out; omega) (by have := HRB.out; omega)
          have hR := HSY X3 (fun b => b = v9) wa1 wF g s2 hR ⟨fF.os, fF.tape, fF.output, fF.size, fun i hi hn => fF.block i hi hn hn⟩ (fun b hb e => by have := HXL.out b hb; omega)
          have hrdA := hrdA.fr fF (fun hc a ha => by have := hvA hc a ha; omega)
          have hrdD := hrdD.fr fF (fun hc a ha => by have := hvD hc a ha; omega)
          have hOT := own_fr (own_up HO3 (huwa1)) fF (fun x hx => by have := (HO3.lt x hx).2; omega)
          have hOI := own_fr (own_up HOI (huwa1)) fF (fun x hx => by have := (HOI.lt x hx).2; omega)
          go_simp
          try rw [hF]
          refine hK.out _ _ (fun _ => huF) ?_
          clear hK K n0 n1 n2 n3 n4 n5 m0 m1 m2 m3 m4 m5 hF oV fF
          ((with_reducible apply ot_take); (focus exact rfl); (focus exact rfl); (focus (intro w' u1;  go_simp; try with_reducible rfl; done)); (try dsimp only [Act.put]); (try simp only [List.setIfInBounds_toArray, List.set_cons_succ, List.set_cons_zero]))
          ((with_reducible apply ot_take); (focus exact rfl); (focus exact rfl); (focus (intro w' u1;  go_simp; try with_reducible rfl; done)); (try dsimp only [Act.put]); (try simp only [List.setIfInBounds_toArray, List.set_cons_succ, List.set_cons_zero]))
          refine ot_done ?_
          obtain ⟨x0, x1, x2, x3, x4, x5⟩ := six_cells oF
          obtain ⟨n0, n1, n2, n3, n4, n5⟩ := six_cells zF
          obtain ⟨m0, m1, m2, m3, m4, m5⟩ := six_open zF
          obtain ⟨wG, hwG⟩ : ∃ wG, put6 wF rb (.int .i64 (s2.inn : Int)) (.int .i64 (s2.out : Int)) (.int .u32 (s2.sin : Int)) (.int .u32 (s2.sout : Int)) (.slice A4 nh c4) (.int .i64 (s2.err : Int)) = wG := ⟨_, rfl⟩
          have oG := put6_obj zF (.int .i64 (s2.inn : Int)) (.int .i64 (s2.out : Int)) (.int .u32 (s2.sin : Int)) (.int .u32 (s2.sout : Int)) (.slice A4 nh c4) (.int .i64 (s2.err : Int))
          have fG := put6_fr wF rb (.int .i64 (s2.inn : Int)) (.int .i64 (s2.out : Int)) (.int .u32 (s2.sin : Int)) (.int .u32 (s2.sout : Int)) (.slice A4 nh c4) (.int .i64 (s2.err : Int))
          rw [hwG] at oG fG
          unfold put6 at hwG
          have hrdA := hrdA.fr fG (fun hc a ha => hA4.elim (fun he => by obtain ⟨e1, e2⟩ := he; subst e1 e2; have := (HV.out.offA hc a ha).2; omega) (fun h1 => by have := h1 a ha; omega))
          have hrdD := hrdD.fr fG (fun hc a ha => by have := hD4 a ha; omega)
          have hR := HSY X3 (fun b => b = rb) wF wG g s2 hR ⟨fG.os, fG.tape, fG.output, fG.size, fun i hi hn => fG.block i hi hn hn⟩ (fun b hb e => HV.out.off (e ▸ hb))
          have huG : Up W wG := (HU3.out.trans huF).fr fG HV.out.lo HV.out.lo
          have hV2 : RVar W X3 wG rb s2 A4 nh c4 := HV.out.put hX3q hrbq HNH.out hrdA hA4 oG
          have hOT := own_fr hOT fG (fun x hx => by have := (HO3.lt x hx).1; have := HRB3.out; omega)
          have hOI := own_fr hOI fG (fun x hx => by have := (HOI.lt x hx).1; have := HRB2.out; omega)
          have hAI : 0 < c4 → ∀ a, A4 = some a → ∀ x, (Value.slice Bi m ci).ownBlock = some x → a.block ≠ x := fun hc a ha x hx => by
            have h2 := (HOI.lt x hx)
            exact hA4.elim (fun he => by obtain ⟨e1, e2⟩ := he; subst e1 e2; have := HAL2.out hc a ha; omega) (fun h1 => by have := h1 a ha; have := hwq3; omega)
          have SA := Lib.hid (fun w' (u : Up wG w') => Rd.str (n := tl.length) ((own_read hOT).up u) rfl)
          have SD := Lib.hid (fun w' (u : Up wG w') => Rd.str (n := tl.length) (hrdD.up u) rfl)
          have SI := Lib.hid (fun w' (u : Up wG w') => Rd.str (n := m) ((own_read hOI).up u) HML.out)
          have SL := Lib.hid (fun w' (u : Up wG w') => Rd.str (n := m) (HRL.out.up (huG.trans u)) HML.out)
          have HRC := Lib.hid (fun w' (u : Up wG w') => HVC0.out w' (huG.trans u))
          have HYX := Lib.hid (fun w' (u : Up wG w') => six_cells (obj_up oG u))
          have SM0 := fun w' (u : Up wG w') => HSM.out X3 g s2 A4 nh c4 w' (HU X3 wG w' g s2 hR u) HNH.out
          unfold aggR cellsR at SM0
          have SM := Lib.hid SM0
          have HR2 := Lib.hid hR
          have HV2 := Lib.hid hV2
          have HUG := Lib.hid huG
          have HOI2 := Lib.hid hOI
          have HAI := Lib.hid hAI
          clear hrdA hrdD hR hV2 huG hOT hOI oF zF oG fG SM0 hAI
          go_wp2_with (rw [hwG])
          clear x0 x1 x2 x3 x4 x5 n0 n1 n2 n3 n4 n5 m0 m1 m2 m3 m4 m5 hwG
          refine wp_region_pi [(0, false), (1, false), (2, false), (3, false), (4, false), (5, false), (6, false), (7, false), (8, false), (9, false), (10, false), (11, false), (12, false), (13, true), (14, false), (15, false), (16, false), (17, false), (18, false), (19, false), (20, false), (21, false), (22, false), (23, false), (24, false), (25, false)] (by kernel_rfl) (by kernel_rfl) (fun _ _ d _ _ h => by cases d <;> exact h) ?_
          ((with_reducible apply pi_take); (focus exact rfl); (focus exact rfl); (focus (intro w' u1; have sa := SA.out w' (Up.of_drew u1); have sd := SD.out w' (Up.of_drew u1); have xc := HRC.out w' (Up.of_drew u1); obtain ⟨y0, y1, y2, y3, y4, y5⟩ := HYX.out w' (Up.of_drew u1); go_simp; try with_reducible rfl; done)); (try dsimp only [Act.put]); (try simp only [List.setIfInBounds_toArray, List.set_cons_succ, List.set_cons_zero]))
          ((with_reducible apply pi_take); (focus exact rfl); (focus exact rfl); (focus (intro w' u1; have sa := SA.out w' (Up.of_drew u1); have sd := SD.out w' (Up.of_drew u1); have xc := HRC.out w' (Up.of_drew u1); obtain ⟨y0, y1, y2, y3, y4, y5⟩ := HYX.out w' (Up.of_drew u1); go_simp; try with_reducible rfl; done)); (try dsimp only [Act.put]); (try simp only [List.setIfInBounds_toArray, List.set_cons_succ, List.set_cons_zero]))
          ((with_reducible apply pi_take); (focus exact rfl); (focus exact rfl); (focus (intro w' u1; have sa := SA.out w' (Up.of_drew u1); have sd := SD.out w' (Up.of_drew u1); have xc := HRC.out w' (Up.of_drew u1); obtain ⟨y0, y1, y2, y3, y4, y5⟩ := HYX.out w' (Up.of_drew u1); go_simp; try with_reducible rfl; done)); (try dsimp only [Act.put]); (try simp only [List.setIfInBounds_toArray, List.set_cons_succ, List.set_cons_zero]))
          ((with_reducible apply pi_take); (focus exact rfl); (focus exact rfl); (focus (intro w' u1; have sa := SA.out w' (Up.of_drew u1); have sd := SD.out w' (Up.of_drew u1); have xc := HRC.out w' (Up.of_drew u1); obtain ⟨y0, y1, y2, y3, y4, y5⟩ := HYX.out w' (Up.of_drew u1); go_simp; try with_reducible rfl; done)); (try dsimp only [Act.put]); (try simp only [List.setIfInBounds_toArray, List.set_cons_succ, List.set_cons_zero]))
          ((with_reducible apply pi_take); (focus exact rfl); (focus exact rfl); (focus (intro w' u1; have sa := SA.out w' (Up.of_drew u1); have sd := SD.out w' (Up.of_drew u1); have xc := HRC.out w' (Up.of_drew u1); obtain ⟨y0, y1, y2, y3, y4, y5⟩ := HYX.out w' (Up.of_drew u1); go_simp; try with_reducible rfl; done)); (try dsimp only [Act.put]); (try simp only [List.setIfInBounds_toArray, List.set_cons_succ, List.set_cons_zero]))
          ((with_reducible apply pi_take); (focus exact rfl); (focus exact rfl); (focus (intro w' u1; have sa := SA.out w' (Up.of_drew u1); have sd := SD.out w' (Up.of_drew u1); have xc := HRC.out w' (Up.of_drew u1); obtain ⟨y0, y1, y2, y3, y4, y5⟩ := HYX.out w' (Up.of_drew u1); go_simp; try with_reducible rfl; done)); (try dsimp only [Act.put]); (try simp only [List.setIfInBounds_toArray, List.set_cons_succ, List.set_cons_zero]))
          ((with_reducible apply pi_take); (focus exact rfl); (focus exact rfl); (focus (intro w' u1; have sa := SA.out w' (Up.of_drew u1); have sd := SD.out w' (Up.of_drew u1); have xc := HRC.out w' (Up.of_drew u1); obtain ⟨y0, y1, y2, y3, y4, y5⟩ := HYX.out w' (Up.of_drew u1); go_simp; try with_reducible rfl; done)); (try dsimp only [Act.put]); (try simp only [List.setIfInBounds_toArray, List.set_cons_succ, List.set_cons_zero]))
          ((with_reducible apply pi_take); (focus exact rfl); (focus exact rfl); (focus (intro w' u1; have sa := SA.out w' (Up.of_drew u1); have sd := SD.out w' (Up.of_drew u1); have xc := HRC.out w' (Up.of_drew u1); obtain ⟨y0, y1, y2, y3, y4, y5⟩ := HYX.out w' (Up.of_drew u1); go_simp; try with_reducible rfl; done)); (try dsimp only [Act.put]); (try simp only [List.setIfInBounds_toArray, List.set_cons_succ, List.set_cons_zero]))
          ((with_reducible apply pi_take); (focus exact rfl); (focus exact rfl); (focus (intro w' u1; have sa := SA.out w' (Up.of_drew u1); have sd := SD.out w' (Up.of_drew u1); have xc := HRC.out w' (Up.of_drew u1); obtain ⟨y0, y1, y2, y3, y4, y5⟩ := HYX.out w' (Up.of_drew u1); go_simp; try with_reducible rfl; done)); (try dsimp only [Act.put]); (try simp only [List.setIfInBounds_toArray, List.set_cons_succ, List.set_cons_zero]))
          ((with_reducible apply pi_take); (focus exact rfl); (focus exact rfl); (focus (intro w' u1; have sa := SA.out w' (Up.of_drew u1); have sd := SD.out w' (Up.of_drew u1); have xc := HRC.out w' (Up.of_drew u1); obtain ⟨y0, y1, y2, y3, y4, y5⟩ := HYX.out w' (Up.of_drew u1); go_simp; try with_reducible rfl; done)); (try dsimp only [Act.put]); (try simp only [List.setIfInBounds_toArray, List.set_cons_succ, List.set_cons_zero]))
          ((with_reducible apply pi_take); (focus exact rfl); (focus exact rfl); (focus (intro w' u1; have sa := SA.out w' (Up.of_drew u1); have sd := SD.out w' (Up.of_drew u1); have xc := HRC.out w' (Up.of_drew u1); obtain ⟨y0, y1, y2, y3, y4, y5⟩ := HYX.out w' (Up.of_drew u1); go_simp; try with_reducible rfl; done)); (try dsimp only [Act.put]); (try simp only [List.setIfInBounds_toArray, List.set_cons_succ, List.set_cons_zero]))
          ((with_reducible apply pi_take); (focus exact rfl); (focus exact rfl); (focus (intro w' u1; have sa := SA.out w' (Up.of_drew u1); have sd := SD.out w' (Up.of_drew u1); have xc := HRC.out w' (Up.of_drew u1); obtain ⟨y0, y1, y2, y3, y4, y5⟩ := HYX.out w' (Up.of_drew u1); go_simp; try with_reducible rfl; done)); (try dsimp only [Act.put]); (try simp only [List.setIfInBounds_toArray, List.set_cons_succ, List.set_cons_zero]))
          ((with_reducible apply pi_take); (focus exact rfl); (focus exact rfl); (focus (intro w' u1; have sa := SA.out w' (Up.of_drew u1); have sd := SD.out w' (Up.of_drew u1); have xc := HRC.out w' (Up.of_drew u1); obtain ⟨y0, y1, y2, y3, y4, y5⟩ := HYX.out w' (Up.of_drew u1); go_simp; try with_reducible rfl; done)); (try dsimp only [Act.put]); (try simp only [List.setIfInBounds_toArray, List.set_cons_succ, List.set_cons_zero]))
          refine pi_make rfl rfl (fun K hK => ?_)
          go_simp
          refine (SM.out _ (Up.of_drew (Up.refl _))).mono ?_
          rintro e wH ⟨rfl, hy⟩
          refine hK.out _ _ hy ?_
          have hwd := Up.of_drew hy
          clear hK K hy
          ((with_reducible apply pi_take); (focus exact rfl); (focus exact rfl); (focus (intro w' u1; have si := SI.out w' (hwd.trans u1); have sl := SL.out w' (hwd.trans u1); have xc := HRC.out w' (hwd.trans u1); go_simp; try with_reducible rfl; done)); (try dsimp only [Act.put]); (try simp only [List.setIfInBounds_toArray, List.set_cons_succ, List.set_cons_zero]))
          ((with_reducible apply pi_take); (focus exact rfl); (focus exact rfl); (focus (intro w' u1; have si := SI.out w' (hwd.trans u1); have sl := SL.out w' (hwd.trans u1); have xc := HRC.out w' (hwd.trans u1); go_simp; try with_reducible rfl; done)); (try dsimp only [Act.put]); (try simp only [List.setIfInBounds_toArray, List.set_cons_succ, List.set_cons_zero]))
          ((with_reducible apply pi_take); (focus exact rfl); (focus exact rfl); (focus (intro w' u1; have si := SI.out w' (hwd.trans u1); have sl := SL.out w' (hwd.trans u1); have xc := HRC.out w' (hwd.trans u1); go_simp; try with_reducible rfl; done)); (try dsimp only [Act.put]); (try simp only [List.setIfInBounds_toArray, List.set_cons_succ, List.set_cons_zero]))
          ((with_reducible apply pi_take); (focus exact rfl); (focus exact rfl); (focus (intro w' u1; have si := SI.out w' (hwd.trans u1); have sl := SL.out w' (hwd.trans u1); have xc := HRC.out w' (hwd.trans u1); go_simp; try with_reducible rfl; done)); (try dsimp only [Act.put]); (try simp only [List.setIfInBounds_toArray, List.set_cons_succ, List.set_cons_zero]))
          ((with_reducible apply pi_take); (focus exact rfl); (focus exact rfl); (focus (intro w' u1; have si := SI.out w' (hwd.trans u1); have sl := SL.out w' (hwd.trans u1); have xc := HRC.out w' (hwd.trans u1); go_simp; try with_reducible rfl; done)); (try dsimp only [Act.put]); (try simp only [List.setIfInBounds_toArray, List.set_cons_succ, List.set_cons_zero]))
          ((with_reducible apply pi_take); (focus exact rfl); (focus exact rfl); (focus (intro w' u1; have si := SI.out w' (hwd.trans u1); have sl := SL.out w' (hwd.trans u1); have xc := HRC.out w' (hwd.trans u1); go_simp; try with_reducible rfl; done)); (try dsimp only [Act.put]); (try simp only [List.setIfInBounds_toArray, List.set_cons_succ, List.set_cons_zero]))
          ((with_reducible apply pi_take); (focus exact rfl); (focus exact rfl); (focus (intro w' u1; have si := SI.out w' (hwd.trans u1); have sl := SL.out w' (hwd.trans u1); have xc := HRC.out w' (hwd.trans u1); go_simp; try with_reducible rfl; done)); (try dsimp only [Act.put]); (try simp only [List.setIfInBounds_toArray, List.set_cons_succ, List.set_cons_zero]))
          ((with_reducible apply pi_take); (focus exact rfl); (focus exact rfl); (focus (intro w' u1; have si := SI.out w' (hwd.trans u1); have sl := SL.out w' (hwd.trans u1); have xc := HRC.out w' (hwd.trans u1); go_simp; try with_reducible rfl; done)); (try dsimp only [Act.put]); (try simp only [List.setIfInBounds_toArray, List.set_cons_succ, List.set_cons_zero]))
          ((with_reducible apply pi_take); (focus exact rfl); (focus exact rfl); (focus (intro w' u1; have si := SI.out w' (hwd.trans u1); have sl := SL.out w' (hwd.trans u1); have xc := HRC.out w' (hwd.trans u1); go_simp; try with_reducible rfl; done)); (try dsimp only [Act.put]); (try simp only [List.setIfInBounds_toArray, List.set_cons_succ, List.set_cons_zero]))
          ((with_reducible apply pi_take); (focus exact rfl); (focus exact rfl); (focus (intro w' u1; have si := SI.out w' (hwd.trans u1); have sl := SL.out w' (hwd.trans u1); have xc := HRC.out w' (hwd.trans u1); go_simp; try with_reducible rfl; done)); (try dsimp only [Act.put]); (try simp only [List.setIfInBounds_toArray, List.set_cons_succ, List.set_cons_zero]))
          ((with_reducible apply pi_take); (focus exact rfl); (focus exact rfl); (focus (intro w' u1; have si := SI.out w' (hwd.trans u1); have sl := SL.out w' (hwd.trans u1); have xc := HRC.out w' (hwd.trans u1); go_simp; try with_reducible rfl; done)); (try dsimp only [Act.put]); (try simp only [List.setIfInBounds_toArray, List.set_cons_succ, List.set_cons_zero]))
          ((with_reducible apply pi_take); (focus exact rfl); (focus exact rfl); (focus (intro w' u1; have si := SI.out w' (hwd.trans u1); have sl := SL.out w' (hwd.trans u1); have xc := HRC.out w' (hwd.trans u1); go_simp; try with_reducible rfl; done)); (try dsimp only [Act.put]); (try simp only [List.setIfInBounds_toArray, List.set_cons_succ, List.set_cons_zero]))
          refine pi_done ?_
          have hRI := HU X3 wG wH g s2 HR2.out hwd
          have hVI := HV2.out.up hwd
          have hOI := own_up HOI2.out hwd
          have hUI := HUG.out.trans hwd
          have HRI := Lib.hid hRI
          have HVI := Lib.hid hVI
          have HOI3 := Lib.hid hOI
          have HUI := Lib.hid hUI
          clear hRI hVI hOI hUI SA SD SI SL HRC HYX SM HR2 HV2 HUG HOI2 hwd hA4 hD4 hX3q hrbq hv9 huF
          go_wp2_with fail
          have HBO2 := Lib.hid hbo
          generalize wr = wA at *
          go_loopw [14] (fun i2 wy => ∃ j : Nat, j ≤ m ∧ i2 = .int .i64 (j : Int) ∧ Hid (Rep X3 wy g s2 ∧ RVar W X3 wy rb s2 A4 nh c4 ∧ Up W wy ∧ ∃ ys : List UInt8, ys.length = m ∧ wy.ownsRow wA.heap.size 5 1 (.slice Bi m ci) m (bs ys))) (fun i2 _ => m - (intOf i2).toNat)
          case atStart => exact ⟨0, Nat.zero_le _, rfl, Lib.hid ⟨HRI.out, HVI.out, HUI.out, lk, HML.out.symm, HOI3.out⟩⟩
          case round =>
            obtain ⟨j, hj, rfl, HJ⟩ := hrel
            by_cases hjl : j < m
            · obtain ⟨hRj, hVj, hUj, ys, hyl, hOj⟩ := HJ.out
              obtain ⟨bi, hbi, hb1, hb2⟩ := own_addr hOj (by omega)
              subst hbi
              have hcj : wr.cell? ⟨bi, j, none⟩ = some (.int .u8 (ys[j].toNat : Int)) := (hOj.cellAt j (by omega)).trans (bs_get ys j (by omega))
              have hfj : wr.frozen? ⟨bi, j, none⟩ = false := hOj.frozenAt j
              have hlt8 : ys[j].toNat < 256 := ys[j].toNat_lt
              have HSETB := Lib.hid (fun z hz => own_bumpB hOj j z hz)
              have hfx := fun (v : Value) => (Fr.refl bi bi wr).setCell (p := ⟨bi, j, none⟩) (.inl rfl) v
              have hfx2 := fun (v : Value) => (show Fx (fun b => b = bi) wr (wr.setCell ⟨bi, j, none⟩ v) from ⟨(hfx v).os, (hfx v).tape, (hfx v).output, (hfx v).size, fun i hi hn => (hfx v).block i hi hn hn⟩)
              have HNX := Lib.hid (fun (v : Value) => show Rep X3 (wr.setCell ⟨bi, j, none⟩ v) g s2 ∧ RVar W X3 (wr.setCell ⟨bi, j, none⟩ v) rb s2 A4 nh c4 ∧ Up W (wr.setCell ⟨bi, j, none⟩ v) from
                ⟨HSY X3 _ wr _ g s2 hRj (hfx2 v) (fun b hb e => HOF.out bi rfl (e ▸ hb)), hVj.other (hfx2 v) (by have := HRB2.out; omega) (fun hc a ha => HAI.out hc a ha bi rfl), hUj.setCell (by have := HSA.out; omega) j v⟩)
              have HYL := Lib.hid hyl
              generalize ys[j].toNat = y at *
              clear hRj hVj hUj hOj hfx hfx2 HJ hyl
              go_wp2_with fail
              go_roundw
              case rel =>
                obtain ⟨h1, h2, h3⟩ := HNX.out (.int .u8 (((y : Int) + 1) % 256))
                obtain ⟨zs, hz1, hz2⟩ := HSETB.out (((y : Int) + 1) % 256) ⟨by omega, by omega⟩
                exact ⟨j + 1, by omega, by go_num, Lib.hid ⟨h1, h2, h3, zs, hz1.trans HYL.out, hz2⟩⟩
              case measure => simp [intOf]; omega
            · obtain ⟨hRj, hVj, hUj, _⟩ := HJ.out
              have HNX := Lib.hid (⟨hRj, hVj, hUj⟩ : _ ∧ _ ∧ _)
              clear HJ hRj hVj hUj
              by_cases hel : k < len2
              · obtain ⟨a2, bv, rfl, hab2, hcb0⟩ := HBO2.out k hel
                have hcb : wr.cell? (a2.add k) = some (.bool bv) := (Below.cell HNX.out.2.2 (p := a2.add k) (by rw [addr_block]; exact hab2)).trans hcb0
                cases bv with
                | false =>
                  go_wp2_with fail
                  go_roundw
                  case rel => exact ⟨k + 1, q + m, s2, A4, nh, c4, X3, by omega, by go_num, Lib.hid ⟨HT2.out, HOK2.out, HNX.out.1, HX3.out, HNX.out.2.1, HNX.out.2.2⟩⟩
                  case measure => simp [intOf]; omega
                | true =>
                  have CE := Lib.hid (HE.out X3 wr g s2 (q + m) HNX.out.2.2 HNX.out.1 HOK2.out hT2)
                  have FR := fun w' (hrA : Rd w' A4 c4 (bs s2.held)) => fin_ref s2 A4 nh c4 w' hrA HNH.out HOK2.out.err (by have := HOK2.out.held; have := HNH.out; omega) (by have := HOK2.out.inn; omega) (by have := HOK2.out.out; omega) HOK2.out.sin HOK2.out.sout
                  unfold WrP aggR cellsR at FR
                  have HOK3 := Lib.hid HOK2.out.fin
                  obtain ⟨nf, hnf⟩ : ∃ nf, nf = s2.fin.held.length := ⟨_, rfl⟩
                  rw [← hnf] at FR
                  have HNF := Lib.hid hnf
                  have HFR := Lib.hid FR
                  clear hnf FR
                  generalize s2.fin = s3 at *
                  generalize s2.last = tl3 at *
                  go_wp2_with fail
                  refine CE.out.mono ?_
                  intro e w5 hp
                  obtain ⟨X5, B5, b5, rfl, hO5, hf5, hR5, hx5, hk5, hu5, hX5⟩ := hp.out HNX.out.2.2 HX3.out
                  have hV5 := HNX.out.2.1.call hx5 hk5
                  obtain ⟨y0, y1, y2, y3, y4, y5⟩ := six_cells hV5.obj
                  have hX5l := HLT.out X5 w5 g s3 hR5
                  have HV5 := Lib.hid hV5
                  have HR5 := Lib.hid hR5
                  have HO5 := Lib.hid hO5
                  have HU5 := Lib.hid hu5
                  have HX5 := Lib.hid hX5
                  have HX5L := Lib.hid hX5l
                  have HRB5 := Lib.hid (show rb < wr.heap.size from obj_lt HNX.out.2.1.obj)
                  clear hp hO5 hf5 hR5 hx5 hk5 hu5 hX5 hX5l hV5 CE hcb
                  go_wp2_with fail
                  refine (HFR.out w5 HV5.out.rd).mono ?_
                  rintro e w6 ⟨A6, c6, D6, d6, rfl, hrdA, hrdD, hA6, hD6, hu6⟩
                  clear y0 y1 y2 y3 y4 y5 HFR
                  have z6 := obj_up HV5.out.obj hu6
                  obtain ⟨n0, n1, n2, n3, n4, n5⟩ := six_cells z6
                  obtain ⟨m0, m1, m2, m3, m4, m5⟩ := six_open z6
                  obtain ⟨wQ, hwQ⟩ : ∃ wQ, put6 w6 rb (.int .i64 (s3.inn : Int)) (.int .i64 (s3.out : Int)) (.int .u32 (s3.sin : Int)) (.int .u32 (s3.sout : Int)) (.slice A6 nf c6) (.int .i64 (s3.err : Int)) = wQ := ⟨_, rfl⟩
                  have oQ := put6_obj z6 (.int .i64 (s3.inn : Int)) (.int .i64 (s3.out : Int)) (.int .u32 (s3.sin : Int)) (.int .u32 (s3.sout : Int)) (.slice A6 nf c6) (.int .i64 (s3.err : Int))
                  have fQ := put6_fr w6 rb (.int .i64 (s3.inn : Int)) (.int .i64 (s3.out : Int)) (.int .u32 (s3.sin : Int)) (.int .u32 (s3.sout : Int)) (.slice A6 nf c6) (.int .i64 (s3.err : Int))
                  rw [hwQ] at oQ fQ
                  unfold put6 at hwQ
                  have hrb5 : rb < w5.heap.size := obj_lt HV5.out.obj
                  have hrdA := hrdA.fr fQ (fun hc a ha => hA6.elim (fun he => by obtain ⟨e1, e2⟩ := he; subst e1 e2; have := (HV5.out.offA hc a ha).2; omega) (fun h1 => by have := h1 a ha; omega))
                  have hrdD := hrdD.fr fQ (fun hc a ha => by have := hD6 a ha; omega)
                  have hRQ := HSY X5 (fun b => b = rb) w6 wQ g s3 (HU X5 w5 w6 g s3 HR5.out hu6) ⟨fQ.os, fQ.tape, fQ.output, fQ.size, fun i hi hn => fQ.block i hi hn hn⟩ (fun b hb e => HV5.out.off (e ▸ hb))
                  have huQ : Up W wQ := (HU5.out.trans hu6).fr fQ HV5.out.lo HV5.out.lo
                  have hVQ : RVar W X5 wQ rb s3 A6 nf c6 := HV5.out.put HX5L.out hrb5 HNF.out hrdA hA6 oQ
                  have hOQ := own_fr (own_up HO5.out hu6) fQ (fun x hx => by have := (HO5.out.lt x hx).1; have := HRB5.out; omega)
                  have sa := Rd.str (n := tl3.length) (own_read hOQ) rfl
                  have sd := Rd.str (n := tl3.length) hrdD rfl
                  obtain ⟨y0, y1, y2, y3, y4, y5⟩ := six_cells oQ
                  have SMQ := HSM.out X5 g s3 A6 nf c6 wQ hRQ HNF.out
                  unfold aggR cellsR at SMQ
                  have HSQ := Lib.hid SMQ
                  have HQ := Lib.hid (⟨hRQ, hVQ, huQ⟩ : _ ∧ _ ∧ _)
                  clear hrdA hrdD hRQ hVQ huQ hOQ oQ fQ z6 SMQ hA6 hD6 hu6
                  go_wp2_with (rw [hwQ])
                  refine HSQ.out.mono ?_
                  rintro e wR ⟨rfl, hy9⟩
                  go_wp2_with fail
                  go_roundw
                  case rel => exact ⟨k + 1, q + m, s3, A6, nf, c6, X5, by omega, by go_num, Lib.hid ⟨HT2.out, HOK3.out, HU X5 wQ wR g s3 HQ.out.1 hy9, HX5.out, HQ.out.2.1.up hy9, HQ.out.2.2.trans hy9⟩⟩
                  case measure => simp [intOf]; omega
              · go_wp2_with fail
                go_roundw
                case rel => exact ⟨k + 1, q + m, s2, A4, nh, c4, X3, by omega, by go_num, Lib.hid ⟨HT2.out, HOK2.out, HNX.out.1, HX3.out, HNX.out.2.1, HNX.out.2.2⟩⟩
                case measure => simp [intOf]; omega
        · go_simp
          refine hK.out _ _ (fun _ => (hud).alloc _) ?_
          have oV := heap_alloc_new wd (.cells #[.int .i64 0, .int .i64 0, .int .u32 0, .int .u32 0, .slice none 0 0, .int .i64 0] 33)
          have hy : Up wd (wd.alloc (.cells #[.int .i64 0, .int .i64 0, .int .u32 0, .int .u32 0, .slice none 0 0, .int .i64 0] 33)) := (Up.refl wd).alloc _
          have huwa0 := (hud).trans hy
          have hv9 : w3.heap.size ≤ wd.heap.size := (hud).size
          have hR := HU X3 wd (wd.alloc (.cells #[.int .i64 0, .int .i64 0, .int .u32 0, .int .u32 0, .slice none 0 0, .int .i64 0] 33)) g s2 hR hy
          generalize wd.alloc (.cells #[.int .i64 0, .int .i64 0, .int .u32 0, .int .u32 0, .slice none 0 0, .int .i64 0] 33) = wa0 at *
          generalize wd.heap.size = v9 at *
          clear hK K hy
          refine ot_make rfl rfl (fun K hK => ?_)
          go_simp
          refine (WRF.out wa0 huwa0).mono ?_
          rintro e wa1 ⟨A4, c4, D4, d4, rfl, hrdA, hrdD, hA4, hD4, hy⟩
          have huwa1 := (huwa0).trans hy
          refine hK.out _ _ (fun _ => huwa1) ?_
          have hR := HU X3 wa0 wa1 g s2 hR hy
          have hX3q := HLT.out X3 wa0 g s2 (HU X3 w3 wa0 g s2 HR3.out huwa0)
          have hwq3 : w3.heap.size ≤ wa0.heap.size := (huwa0).size
          have hrbq : rb < wa0.heap.size := by have := HRB.out; have := (huwa0).size; omega
          have hvq : v9 < wa0.heap.size := obj_lt oV
          have oV := obj_up oV hy
          clear hK K hy
          ((with_reducible apply ot_take); (focus exact rfl); (focus exact rfl); (focus (intro w' u1;  go_simp; try with_reducible rfl; done)); (try dsimp only [Act.put]); (try simp only [List.setIfInBounds_toArray, List.set_cons_succ, List.set_cons_zero]))
          ((with_reducible apply ot_take); (focus exact rfl); (focus exact rfl); (focus (intro w' u1;  go_simp; try with_reducible rfl; done)); (try dsimp only [Act.put]); (try simp only [List.setIfInBounds_toArray, List.set_cons_succ, List.set_cons_zero]))
          ((with_reducible apply ot_take); (focus exact rfl); (focus exact rfl); (focus (intro w' u1;  go_simp; try with_reducible rfl; done)); (try dsimp only [Act.put]); (try simp only [List.setIfInBounds_toArray, List.set_cons_succ, List.set_cons_zero]))
          ((with_reducible apply ot_take); (focus exact rfl); (focus exact rfl); (focus (intro w' u1;  go_simp; try with_reducible rfl; done)); (try dsimp only [Act.put]); (try simp only [List.setIfInBounds_toArray, List.set_cons_succ, List.set_cons_zero]))
          refine ot_make rfl rfl (fun K hK => ?_)
          obtain ⟨wF, hF⟩ : ∃ wF, put6 wa1 v9 (.int .i64 (s2.inn : Int)) (.int .i64 (s2.out : Int)) (.int .u32 (s2.sin : Int)) (.int .u32 (s2.sout : Int)) (.slice A4 nh c4) (.int .i64 (s2.err : Int)) = wF := ⟨_, rfl⟩
          have oF := put6_obj oV (.int .i64 (s2.inn : Int)) (.int .i64 (s2.out : Int)) (.int .u32 (s2.sin : Int)) (.int .u32 (s2.sout : Int)) (.slice A4 nh c4) (.int .i64 (s2.err : Int))
          have fF := put6_fr wa1 v9 (.int .i64 (s2.inn : Int)) (.int .i64 (s2.out : Int)) (.int .u32 (s2.sin : Int)) (.int .u32 (s2.sout : Int)) (.slice A4 nh c4) (.int .i64 (s2.err : Int))
          rw [hF] at oF fF
          unfold put6 at hF
          obtain ⟨n0, n1, n2, n3, n4, n5⟩ := six_cells oV
          obtain ⟨m0, m1, m2, m3, m4, m5⟩ := six_open oV
          have huF := (huwa1).fr fF hv9 hv9
          have zF := obj_fr (obj_up HVO.out (huwa1)) fF (by have := HRB.out; omega) (by have := HRB.out; omega)
          have hR := HSY X3 (fun b => b = v9) wa1 wF g s2 hR ⟨fF.os, fF.tape, fF.output, fF.size, fun i hi hn => fF.block i hi hn hn⟩ (fun b hb e => by have := HXL.out b hb; omega)
          have hrdA := hrdA.fr fF (fun hc a ha => hA4.elim (fun he => by obtain ⟨e1, e2⟩ := he; subst e1 e2; have := HAL.out hc a ha; omega) (fun h1 => by have := h1 a ha; omega))
          have hrdD := hrdD.fr fF (fun hc a ha => by have := hD4 a ha; omega)
          have hOT := own_fr (own_up HO3 (huwa1)) fF (fun x hx => by have := (HO3.lt x hx).2; omega)
          have hOI := own_fr (own_up HOI (huwa1)) fF (fun x hx => by have := (HOI.lt x hx).2; omega)
          go_simp
          try rw [hF]
          refine hK.out _ _ (fun _ => huF) ?_
          clear hK K n0 n1 n2 n3 n4 n5 m0 m1 m2 m3 m4 m5 hF oV fF
          ((with_reducible apply ot_take); (focus exact rfl); (focus exact rfl); (focus (intro w' u1;  go_simp; try with_reducible rfl; done)); (try dsimp only [Act.put]); (try simp only [List.setIfInBounds_toArray, List.set_cons_succ, List.set_cons_zero]))
          ((with_reducible apply ot_take); (focus exact rfl); (focus exact rfl); (focus (intro w' u1;  go_simp; try with_reducible rfl; done)); (try dsimp only [Act.put]); (try simp only [List.setIfInBounds_toArray, List.set_cons_succ, List.set_cons_zero]))
          refine ot_done ?_
          obtain ⟨x0, x1, x2, x3, x4, x5⟩ := six_cells oF
          obtain ⟨n0, n1, n2, n3, n4, n5⟩ := six_cells zF
          obtain ⟨m0, m1, m2, m3, m4, m5⟩ := six_open zF
          obtain ⟨wG, hwG⟩ : ∃ wG, put6 wF rb (.int .i64 (s2.inn : Int)) (.int .i64 (s2.out : Int)) (.int .u32 (s2.sin : Int)) (.int .u32 (s2.sout : Int)) (.slice A4 nh c4) (.int .i64 (s2.err : Int)) = wG := ⟨_, rfl⟩
          have oG := put6_obj zF (.int .i64 (s2.inn : Int)) (.int .i64 (s2.out : Int)) (.int .u32 (s2.sin : Int)) (.int .u32 (s2.sout : Int)) (.slice A4 nh c4) (.int .i64 (s2.err : Int))
          have fG := put6_fr wF rb (.int .i64 (s2.inn : Int)) (.int .i64 (s2.out : Int)) (.int .u32 (s2.sin : Int)) (.int .u32 (s2.sout : Int)) (.slice A4 nh c4) (.int .i64 (s2.err : Int))
          rw [hwG] at oG fG
          unfold put6 at hwG
          have hrdA := hrdA.fr fG (fun hc a ha => hA4.elim (fun he => by obtain ⟨e1, e2⟩ := he; subst e1 e2; have := (HV.out.offA hc a ha).2; omega) (fun h1 => by have := h1 a ha; omega))
          have hrdD := hrdD.fr fG (fun hc a ha => by have := hD4 a ha; omega)
          have hR := HSY X3 (fun b => b = rb) wF wG g s2 hR ⟨fG.os, fG.tape, fG.output, fG.size, fun i hi hn => fG.block i hi hn hn⟩ (fun b hb e => HV.out.off (e ▸ hb))
          have huG : Up W wG := (HU3.out.trans huF).fr fG HV.out.lo HV.out.lo
          have hV2 : RVar W X3 wG rb s2 A4 nh c4 := HV.out.put hX3q hrbq HNH.out hrdA hA4 oG
          have hOT := own_fr hOT fG (fun x hx => by have := (HO3.lt x hx).1; have := HRB3.out; omega)
          have hOI := own_fr hOI fG (fun x hx => by have := (HOI.lt x hx).1; have := HRB2.out; omega)
          have hAI : 0 < c4 → ∀ a, A4 = some a → ∀ x, (Value.slice Bi m ci).ownBlock = some x → a.block ≠ x := fun hc a ha x hx => by
            have h2 := (HOI.lt x hx)
            exact hA4.elim (fun he => by obtain ⟨e1, e2⟩ := he; subst e1 e2; have := HAL2.out hc a ha; omega) (fun h1 => by have := h1 a ha; have := hwq3; omega)
          have SA := Lib.hid (fun w' (u : Up wG w') => Rd.str (n := tl.length) ((own_read hOT).up u) rfl)
          have SD := Lib.hid (fun w' (u : Up wG w') => Rd.str (n := tl.length) (hrdD.up u) rfl)
          have SI := Lib.hid (fun w' (u : Up wG w') => Rd.str (n := m) ((own_read hOI).up u) HML.out)
          have SL := Lib.hid (fun w' (u : Up wG w') => Rd.str (n := m) (HRL.out.up (huG.trans u)) HML.out)
          have HRC := Lib.hid (fun w' (u : Up wG w') => HVC0.out w' (huG.trans u))
          have HYX := Lib.hid (fun w' (u : Up wG w') => six_cells (obj_up oG u))
          have SM0 := fun w' (u : Up wG w') => HSM.out X3 g s2 A4 nh c4 w' (HU X3 wG w' g s2 hR u) HNH.out
          unfold aggR cellsR at SM0
          have SM := Lib.hid SM0
          have HR2 := Lib.hid hR
          have HV2 := Lib.hid hV2
          have HUG := Lib.hid huG
          have HOI2 := Lib.hid hOI
          have HAI := Lib.hid hAI
          clear hrdA hrdD hR hV2 huG hOT hOI oF zF oG fG SM0 hAI
          go_wp2_with (rw [hwG])
          clear x0 x1 x2 x3 x4 x5 n0 n1 n2 n3 n4 n5 m0 m1 m2 m3 m4 m5 hwG
          refine wp_region_pi [(0, false), (1, false), (2, false), (3, false), (4, false), (5, false), (6, false), (7, false), (8, false), (9, false), (10, false), (11, false), (12, false), (13, true), (14, false), (15, false), (16, false), (17, false), (18, false), (19, false), (20, false), (21, false), (22, false), (23, false), (24, false), (25, false)] (by kernel_rfl) (by kernel_rfl) (fun _ _ d _ _ h => by cases d <;> exact h) ?_
          ((with_reducible apply pi_take); (focus exact rfl); (focus exact rfl); (focus (intro w' u1; have sa := SA.out w' (Up.of_drew u1); have sd := SD.out w' (Up.of_drew u1); have xc := HRC.out w' (Up.of_drew u1); obtain ⟨y0, y1, y2, y3, y4, y5⟩ := HYX.out w' (Up.of_drew u1); go_simp; try with_reducible rfl; done)); (try dsimp only [Act.put]); (try simp only [List.setIfInBounds_toArray, List.set_cons_succ, List.set_cons_zero]))
          ((with_reducible apply pi_take); (focus exact rfl); (focus exact rfl); (focus (intro w' u1; have sa := SA.out w' (Up.of_drew u1); have sd := SD.out w' (Up.of_drew u1); have xc := HRC.out w' (Up.of_drew u1); obtain ⟨y0, y1, y2, y3, y4, y5⟩ := HYX.out w' (Up.of_drew u1); go_simp; try with_reducible rfl; done)); (try dsimp only [Act.put]); (try simp only [List.setIfInBounds_toArray, List.set_cons_succ, List.set_cons_zero]))
          ((with_reducible apply pi_take); (focus exact rfl); (focus exact rfl); (focus (intro w' u1; have sa := SA.out w' (Up.of_drew u1); have sd := SD.out w' (Up.of_drew u1); have xc := HRC.out w' (Up.of_drew u1); obtain ⟨y0, y1, y2, y3, y4, y5⟩ := HYX.out w' (Up.of_drew u1); go_simp; try with_reducible rfl; done)); (try dsimp only [Act.put]); (try simp only [List.setIfInBounds_toArray, List.set_cons_succ, List.set_cons_zero]))
          ((with_reducible apply pi_take); (focus exact rfl); (focus exact rfl); (focus (intro w' u1; have sa := SA.out w' (Up.of_drew u1); have sd := SD.out w' (Up.of_drew u1); have xc := HRC.out w' (Up.of_drew u1); obtain ⟨y0, y1, y2, y3, y4, y5⟩ := HYX.out w' (Up.of_drew u1); go_simp; try with_reducible rfl; done)); (try dsimp only [Act.put]); (try simp only [List.setIfInBounds_toArray, List.set_cons_succ, List.set_cons_zero]))
          ((with_reducible apply pi_take); (focus exact rfl); (focus exact rfl); (focus (intro w' u1; have sa := SA.out w' (Up.of_drew u1); have sd := SD.out w' (Up.of_drew u1); have xc := HRC.out w' (Up.of_drew u1); obtain ⟨y0, y1, y2, y3, y4, y5⟩ := HYX.out w' (Up.of_drew u1); go_simp; try with_reducible rfl; done)); (try dsimp only [Act.put]); (try simp only [List.setIfInBounds_toArray, List.set_cons_succ, List.set_cons_zero]))
          ((with_reducible apply pi_take); (focus exact rfl); (focus exact rfl); (focus (intro w' u1; have sa := SA.out w' (Up.of_drew u1); have sd := SD.out w' (Up.of_drew u1); have xc := HRC.out w' (Up.of_drew u1); obtain ⟨y0, y1, y2, y3, y4, y5⟩ := HYX.out w' (Up.of_drew u1); go_simp; try with_reducible rfl; done)); (try dsimp only [Act.put]); (try simp only [List.setIfInBounds_toArray, List.set_cons_succ, List.set_cons_zero]))
          ((with_reducible apply pi_take); (focus exact rfl); (focus exact rfl); (focus (intro w' u1; have sa := SA.out w' (Up.of_drew u1); have sd := SD.out w' (Up.of_drew u1); have xc := HRC.out w' (Up.of_drew u1); obtain ⟨y0, y1, y2, y3, y4, y5⟩ := HYX.out w' (Up.of_drew u1); go_simp; try with_reducible rfl; done)); (try dsimp only [Act.put]); (try simp only [List.setIfInBounds_toArray, List.set_cons_succ, List.set_cons_zero]))
          ((with_reducible apply pi_take); (focus exact rfl); (focus exact rfl); (focus (intro w' u1; have sa := SA.out w' (Up.of_drew u1); have sd := SD.out w' (Up.of_drew u1); have xc := HRC.out w' (Up.of_drew u1); obtain ⟨y0, y1, y2, y3, y4, y5⟩ := HYX.out w' (Up.of_drew u1); go_simp; try with_reducible rfl; done)); (try dsimp only [Act.put]); (try simp only [List.setIfInBounds_toArray, List.set_cons_succ, List.set_cons_zero]))
          ((with_reducible apply pi_take); (focus exact rfl); (focus exact rfl); (focus (intro w' u1; have sa := SA.out w' (Up.of_drew u1); have sd := SD.out w' (Up.of_drew u1); have xc := HRC.out w' (Up.of_drew u1); obtain ⟨y0, y1, y2, y3, y4, y5⟩ := HYX.out w' (Up.of_drew u1); go_simp; try with_reducible rfl; done)); (try dsimp only [Act.put]); (try simp only [List.setIfInBounds_toArray, List.set_cons_succ, List.set_cons_zero]))
          ((with_reducible apply pi_take); (focus exact rfl); (focus exact rfl); (focus (intro w' u1; have sa := SA.out w' (Up.of_drew u1); have sd := SD.out w' (Up.of_drew u1); have xc := HRC.out w' (Up.of_drew u1); obtain ⟨y0, y1, y2, y3, y4, y5⟩ := HYX.out w' (Up.of_drew u1); go_simp; try with_reducible rfl; done)); (try dsimp only [Act.put]); (try simp only [List.setIfInBounds_toArray, List.set_cons_succ, List.set_cons_zero]))
          ((with_reducible apply pi_take); (focus exact rfl); (focus exact rfl); (focus (intro w' u1; have sa := SA.out w' (Up.of_drew u1); have sd := SD.out w' (Up.of_drew u1); have xc := HRC.out w' (Up.of_drew u1); obtain ⟨y0, y1, y2, y3, y4, y5⟩ := HYX.out w' (Up.of_drew u1); go_simp; try with_reducible rfl; done)); (try dsimp only [Act.put]); (try simp only [List.setIfInBounds_toArray, List.set_cons_succ, List.set_cons_zero]))
          ((with_reducible apply pi_take); (focus exact rfl); (focus exact rfl); (focus (intro w' u1; have sa := SA.out w' (Up.of_drew u1); have sd := SD.out w' (Up.of_drew u1); have xc := HRC.out w' (Up.of_drew u1); obtain ⟨y0, y1, y2, y3, y4, y5⟩ := HYX.out w' (Up.of_drew u1); go_simp; try with_reducible rfl; done)); (try dsimp only [Act.put]); (try simp only [List.setIfInBounds_toArray, List.set_cons_succ, List.set_cons_zero]))
          ((with_reducible apply pi_take); (focus exact rfl); (focus exact rfl); (focus (intro w' u1; have sa := SA.out w' (Up.of_drew u1); have sd := SD.out w' (Up.of_drew u1); have xc := HRC.out w' (Up.of_drew u1); obtain ⟨y0, y1, y2, y3, y4, y5⟩ := HYX.out w' (Up.of_drew u1); go_simp; try with_reducible rfl; done)); (try dsimp only [Act.put]); (try simp only [List.setIfInBounds_toArray, List.set_cons_succ, List.set_cons_zero]))
          refine pi_make rfl rfl (fun K hK => ?_)
          go_simp
          refine (SM.out _ (Up.of_drew (Up.refl _))).mono ?_
          rintro e wH ⟨rfl, hy⟩
          refine hK.out _ _ hy ?_
          have hwd := Up.of_drew hy
          clear hK K hy
          ((with_reducible apply pi_take); (focus exact rfl); (focus exact rfl); (focus (intro w' u1; have si := SI.out w' (hwd.trans u1); have sl := SL.out w' (hwd.trans u1); have xc := HRC.out w' (hwd.trans u1); go_simp; try with_reducible rfl; done)); (try dsimp only [Act.put]); (try simp only [List.setIfInBounds_toArray, List.set_cons_succ, List.set_cons_zero]))
          ((with_reducible apply pi_take); (focus exact rfl); (focus exact rfl); (focus (intro w' u1; have si := SI.out w' (hwd.trans u1); have sl := SL.out w' (hwd.trans u1); have xc := HRC.out w' (hwd.trans u1); go_simp; try with_reducible rfl; done)); (try dsimp only [Act.put]); (try simp only [List.setIfInBounds_toArray, List.set_cons_succ, List.set_cons_zero]))
          ((with_reducible apply pi_take); (focus exact rfl); (focus exact rfl); (focus (intro w' u1; have si := SI.out w' (hwd.trans u1); have sl := SL.out w' (hwd.trans u1); have xc := HRC.out w' (hwd.trans u1); go_simp; try with_reducible rfl; done)); (try dsimp only [Act.put]); (try simp only [List.setIfInBounds_toArray, List.set_cons_succ, List.set_cons_zero]))
          ((with_reducible apply pi_take); (focus exact rfl); (focus exact rfl); (focus (intro w' u1; have si := SI.out w' (hwd.trans u1); have sl := SL.out w' (hwd.trans u1); have xc := HRC.out w' (hwd.trans u1); go_simp; try with_reducible rfl; done)); (try dsimp only [Act.put]); (try simp only [List.setIfInBounds_toArray, List.set_cons_succ, List.set_cons_zero]))
          ((with_reducible apply pi_take); (focus exact rfl); (focus exact rfl); (focus (intro w' u1; have si := SI.out w' (hwd.trans u1); have sl := SL.out w' (hwd.trans u1); have xc := HRC.out w' (hwd.trans u1); go_simp; try with_reducible rfl; done)); (try dsimp only [Act.put]); (try simp only [List.setIfInBounds_toArray, List.set_cons_succ, List.set_cons_zero]))
          ((with_reducible apply pi_take); (focus exact rfl); (focus exact rfl); (focus (intro w' u1; have si := SI.out w' (hwd.trans u1); have sl := SL.out w' (hwd.trans u1); have xc := HRC.out w' (hwd.trans u1); go_simp; try with_reducible rfl; done)); (try dsimp only [Act.put]); (try simp only [List.setIfInBounds_toArray, List.set_cons_succ, List.set_cons_zero]))
          ((with_reducible apply pi_take); (focus exact rfl); (focus exact rfl); (focus (intro w' u1; have si := SI.out w' (hwd.trans u1); have sl := SL.out w' (hwd.trans u1); have xc := HRC.out w' (hwd.trans u1); go_simp; try with_reducible rfl; done)); (try dsimp only [Act.put]); (try simp only [List.setIfInBounds_toArray, List.set_cons_succ, List.set_cons_zero]))
          ((with_reducible apply pi_take); (focus exact rfl); (focus exact rfl); (focus (intro w' u1; have si := SI.out w' (hwd.trans u1); have sl := SL.out w' (hwd.trans u1); have xc := HRC.out w' (hwd.trans u1); go_simp; try with_reducible rfl; done)); (try dsimp only [Act.put]); (try simp only [List.setIfInBounds_toArray, List.set_cons_succ, List.set_cons_zero]))
          ((with_reducible apply pi_take); (focus exact rfl); (focus exact rfl); (focus (intro w' u1; have si := SI.out w' (hwd.trans u1); have sl := SL.out w' (hwd.trans u1); have xc := HRC.out w' (hwd.trans u1); go_simp; try with_reducible rfl; done)); (try dsimp only [Act.put]); (try simp only [List.setIfInBounds_toArray, List.set_cons_succ, List.set_cons_zero]))
          ((with_reducible apply pi_take); (focus exact rfl); (focus exact rfl); (focus (intro w' u1; have si := SI.out w' (hwd.trans u1); have sl := SL.out w' (hwd.trans u1); have xc := HRC.out w' (hwd.trans u1); go_simp; try with_reducible rfl; done)); (try dsimp only [Act.put]); (try simp only [List.setIfInBounds_toArray, List.set_cons_succ, List.set_cons_zero]))
          ((with_reducible apply pi_take); (focus exact rfl); (focus exact rfl); (focus (intro w' u1; have si := SI.out w' (hwd.trans u1); have sl := SL.out w' (hwd.trans u1); have xc := HRC.out w' (hwd.trans u1); go_simp; try with_reducible rfl; done)); (try dsimp only [Act.put]); (try simp only [List.setIfInBounds_toArray, List.set_cons_succ, List.set_cons_zero]))
          ((with_reducible apply pi_take); (focus exact rfl); (focus exact rfl); (focus (intro w' u1; have si := SI.out w' (hwd.trans u1); have sl := SL.out w' (hwd.trans u1); have xc := HRC.out w' (hwd.trans u1); go_simp; try with_reducible rfl; done)); (try dsimp only [Act.put]); (try simp only [List.setIfInBounds_toArray, List.set_cons_succ, List.set_cons_zero]))
          refine pi_done ?_
          have hRI := HU X3 wG wH g s2 HR2.out hwd
          have hVI := HV2.out.up hwd
          have hOI := own_up HOI2.out hwd
          have hUI := HUG.out.trans hwd
          have HRI := Lib.hid hRI
          have HVI := Lib.hid hVI
          have HOI3 := Lib.hid hOI
          have HUI := Lib.hid hUI
          clear hRI hVI hOI hUI SA SD SI SL HRC HYX SM HR2 HV2 HUG HOI2 hwd hA4 hD4 hX3q hrbq hv9 huF
          go_wp2_with fail
          have HBO2 := Lib.hid hbo
          generalize wr = wA at *
          go_loopw [14] (fun i2 wy => ∃ j : Nat, j ≤ m ∧ i2 = .int .i64 (j : Int) ∧ Hid (Rep X3 wy g s2 ∧ RVar W X3 wy rb s2 A4 nh c4 ∧ Up W wy ∧ ∃ ys : List UInt8, ys.length = m ∧ wy.ownsRow wA.heap.size 5 1 (.slice Bi m ci) m (bs ys))) (fun i2 _ => m - (intOf i2).toNat)
          case atStart => exact ⟨0, Nat.zero_le _, rfl, Lib.hid ⟨HRI.out, HVI.out, HUI.out, lk, HML.out.symm, HOI3.out⟩⟩
          case round =>
            obtain ⟨j, hj, rfl, HJ⟩ := hrel
            by_cases hjl : j < m
            · obtain ⟨hRj, hVj, hUj, ys, hyl, hOj⟩ := HJ.out
              obtain ⟨bi, hbi, hb1, hb2⟩ := own_addr hOj (by omega)
              subst hbi
              have hcj : wr.cell? ⟨bi, j, none⟩ = some (.int .u8 (ys[j].toNat : Int)) := (hOj.cellAt j (by omega)).trans (bs_get ys j (by omega))
              have hfj : wr.frozen? ⟨bi, j, none⟩ = false := hOj.frozenAt j
              have hlt8 : ys[j].toNat < 256 := ys[j].toNat_lt
              have HSETB := Lib.hid (fun z hz => own_bumpB hOj j z hz)
              have hfx := fun (v : Value) => (Fr.refl bi bi wr).setCell (p := ⟨bi, j, none⟩) (.inl rfl) v
              have hfx2 := fun (v : Value) => (show Fx (fun b => b = bi) wr (wr.setCell ⟨bi, j, none⟩ v) from ⟨(hfx v).os, (hfx v).tape, (hfx v).output, (hfx v).size, fun i hi hn => (hfx v).block i hi hn hn⟩)
              have HNX := Lib.hid (fun (v : Value) => show Rep X3 (wr.setCell ⟨bi, j, none⟩ v) g s2 ∧ RVar W X3 (wr.setCell ⟨bi, j, none⟩ v) rb s2 A4 nh c4 ∧ Up W (wr.setCell ⟨bi, j, none⟩ v) from
                ⟨HSY X3 _ wr _ g s2 hRj (hfx2 v) (fun b hb e => HOF.out bi rfl (e ▸ hb)), hVj.other (hfx2 v) (by have := HRB2.out; omega) (fun hc a ha => HAI.out hc a ha bi rfl), hUj.setCell (by have := HSA.out; omega) j v⟩)
              have HYL := Lib.hid hyl
              generalize ys[j].toNat = y at *
              clear hRj hVj hUj hOj hfx hfx2 HJ hyl
              go_wp2_with fail
              go_roundw
              case rel =>
                obtain ⟨h1, h2, h3⟩ := HNX.out (.int .u8 (((y : Int) + 1) % 256))
                obtain ⟨zs, hz1, hz2⟩ := HSETB.out (((y : Int) + 1) % 256) ⟨by omega, by omega⟩
                exact ⟨j + 1, by omega, by go_num, Lib.hid ⟨h1, h2, h3, zs, hz1.trans HYL.out, hz2⟩⟩
              case measure => simp [intOf]; omega
            · obtain ⟨hRj, hVj, hUj, _⟩ := HJ.out
              have HNX := Lib.hid (⟨hRj, hVj, hUj⟩ : _ ∧ _ ∧ _)
              clear HJ hRj hVj hUj
              by_cases hel : k < len2
              · obtain ⟨a2, bv, rfl, hab2, hcb0⟩ := HBO2.out k hel
                have hcb : wr.cell? (a2.add k) = some (.bool bv) := (Below.cell HNX.out.2.2 (p := a2.add k) (by rw [addr_block]; exact hab2)).trans hcb0
                cases bv with
                | false =>
                  go_wp2_with fail
                  go_roundw
                  case rel => exact ⟨k + 1, q + m, s2, A4, nh, c4, X3, by omega, by go_num, Lib.hid ⟨HT2.out, HOK2.out, HNX.out.1, HX3.out, HNX.out.2.1, HNX.out.2.2⟩⟩
                  case measure => simp [intOf]; omega
                | true =>
                  have CE := Lib.hid (HE.out X3 wr g s2 (q + m) HNX.out.2.2 HNX.out.1 HOK2.out hT2)
                  have FR := fun w' (hrA : Rd w' A4 c4 (bs s2.held)) => fin_ref s2 A4 nh c4 w' hrA HNH.out HOK2.out.err (by have := HOK2.out.held; have := HNH.out; omega) (by have := HOK2.out.inn; omega) (by have := HOK2.out.out; omega) HOK2.out.sin HOK2.out.sout
                  unfold WrP aggR cellsR at FR
                  have HOK3 := Lib.hid HOK2.out.fin
                  obtain ⟨nf, hnf⟩ : ∃ nf, nf = s2.fin.held.length := ⟨_, rfl⟩
                  rw [← hnf] at FR
                  have HNF := Lib.hid hnf
                  have HFR := Lib.hid FR
                  clear hnf FR
                  generalize s2.fin = s3 at *
                  generalize s2.last = tl3 at *
                  go_wp2_with fail
                  refine CE.out.mono ?_
                  intro e w5 hp
                  obtain ⟨X5, B5, b5, rfl, hO5, hf5, hR5, hx5, hk5, hu5, hX5⟩ := hp.out HNX.out.2.2 HX3.out
                  have hV5 := HNX.out.2.1.call hx5 hk5
                  obtain ⟨y0, y1, y2, y3, y4, y5⟩ := six_cells hV5.obj
                  have hX5l := HLT.out X5 w5 g s3 hR5
                  have HV5 := Lib.hid hV5
                  have HR5 := Lib.hid hR5
                  have HO5 := Lib.hid hO5
                  have HU5 := Lib.hid hu5
                  have HX5 := Lib.hid hX5
                  have HX5L := Lib.hid hX5l
                  have HRB5 := Lib.hid (show rb < wr.heap.size from obj_lt HNX.out.2.1.obj)
                  clear hp hO5 hf5 hR5 hx5 hk5 hu5 hX5 hX5l hV5 CE hcb
                  go_wp2_with fail
                  refine (HFR.out w5 HV5.out.rd).mono ?_
                  rintro e w6 ⟨A6, c6, D6, d6, rfl, hrdA, hrdD, hA6, hD6, hu6⟩
                  clear y0 y1 y2 y3 y4 y5 HFR
                  have z6 := obj_up HV5.out.obj hu6
                  obtain ⟨n0, n1, n2, n3, n4, n5⟩ := six_cells z6
                  obtain ⟨m0, m1, m2, m3, m4, m5⟩ := six_open z6
                  obtain ⟨wQ, hwQ⟩ : ∃ wQ, put6 w6 rb (.int .i64 (s3.inn : Int)) (.int .i64 (s3.out : Int)) (.int .u32 (s3.sin : Int)) (.int .u32 (s3.sout : Int)) (.slice A6 nf c6) (.int .i64 (s3.err : Int)) = wQ := ⟨_, rfl⟩
                  have oQ := put6_obj z6 (.int .i64 (s3.inn : Int)) (.int .i64 (s3.out : Int)) (.int .u32 (s3.sin : Int)) (.int .u32 (s3.sout : Int)) (.slice A6 nf c6) (.int .i64 (s3.err : Int))
                  have fQ := put6_fr w6 rb (.int .i64 (s3.inn : Int)) (.int .i64 (s3.out : Int)) (.int .u32 (s3.sin : Int)) (.int .u32 (s3.sout : Int)) (.slice A6 nf c6) (.int .i64 (s3.err : Int))
                  rw [hwQ] at oQ fQ
                  unfold put6 at hwQ
                  have hrb5 : rb < w5.heap.size := obj_lt HV5.out.obj
                  have hrdA := hrdA.fr fQ (fun hc a ha => hA6.elim (fun he => by obtain ⟨e1, e2⟩ := he; subst e1 e2; have := (HV5.out.offA hc a ha).2; omega) (fun h1 => by have := h1 a ha; omega))
                  have hrdD := hrdD.fr fQ (fun hc a ha => by have := hD6 a ha; omega)
                  have hRQ := HSY X5 (fun b => b = rb) w6 wQ g s3 (HU X5 w5 w6 g s3 HR5.out hu6) ⟨fQ.os, fQ.tape, fQ.output, fQ.size, fun i hi hn => fQ.block i hi hn hn⟩ (fun b hb e => HV5.out.off (e ▸ hb))
                  have huQ : Up W wQ := (HU5.out.trans hu6).fr fQ HV5.out.lo HV5.out.lo
                  have hVQ : RVar W X5 wQ rb s3 A6 nf c6 := HV5.out.put HX5L.out hrb5 HNF.out hrdA hA6 oQ
                  have hOQ := own_fr (own_up HO5.out hu6) fQ (fun x hx => by have := (HO5.out.lt x hx).1; have := HRB5.out; omega)
                  have sa := Rd.str (n := tl3.length) (own_read hOQ) rfl
                  have sd := Rd.str (n := tl3.length) hrdD rfl
                  obtain ⟨y0, y1, y2, y3, y4, y5⟩ := six_cells oQ
                  have SMQ := HSM.out X5 g s3 A6 nf c6 wQ hRQ HNF.out
                  unfold aggR cellsR at SMQ
                  have HSQ := Lib.hid SMQ
                  have HQ := Lib.hid (⟨hRQ, hVQ, huQ⟩ : _ ∧ _ ∧ _)
                  clear hrdA hrdD hRQ hVQ huQ hOQ oQ fQ z6 SMQ hA6 hD6 hu6
                  go_wp2_with (rw [hwQ])
                  refine HSQ.out.mono ?_
                  rintro e wR ⟨rfl, hy9⟩
                  go_wp2_with fail
                  go_roundw
                  case rel => exact ⟨k + 1, q + m, s3, A6, nf, c6, X5, by omega, by go_num, Lib.hid ⟨HT2.out, HOK3.out, HU X5 wQ wR g s3 HQ.out.1 hy9, HX5.out, HQ.out.2.1.up hy9, HQ.out.2.2.trans hy9⟩⟩
                  case measure => simp [intOf]; omega
              · go_wp2_with fail
                go_roundw
                case rel => exact ⟨k + 1, q + m, s2, A4, nh, c4, X3, by omega, by go_num, Lib.hid ⟨HT2.out, HOK2.out, HNX.out.1, HX3.out, HNX.out.2.1, HNX.out.2.2⟩⟩
                case measure => simp [intOf]; omega
      · have hq6 : q ≤ 600 := by
          have e : LL.take k = LL := List.take_of_length_le (by rw [HLN.out]; omega)
          rw [hq, e]; exact HFL.out
        have CE := Lib.hid (HE.out X wr g s q hu hR hok hq6)
        have FR := fun w' (hrA : Rd w' A c (bs s.held)) => fin_ref s A n c w' hrA hV.len hok.err (by have := hok.held; have := hV.len; omega) (by have := hok.inn; omega) (by have := hok.out; omega) hok.sin hok.sout
        unfold WrP aggR cellsR at FR
        have HFR := Lib.hid FR
        have HVW := Lib.hid hV
        have HXW := Lib.hid hX
        have HUW := Lib.hid hu
        clear FR hq hq6 hok hR hX hV hu hin hbo
        generalize s.fin = sf at *
        generalize s.last = tf at *
        generalize hnf : sf.held.length = nf at *
        clear hnf
        go_wp2_with fail
        refine CE.out.mono ?_
        intro e w5 hp
        obtain ⟨X5, B5, b5, rfl, hO5, hf5, hR5, hx5, hk5, hu5, hX5⟩ := hp.out HUW.out HXW.out
        have hV5 := HVW.out.call hx5 hk5
        obtain ⟨y0, y1, y2, y3, y4, y5⟩ := six_cells hV5.obj
        have HV5 := Lib.hid hV5
        have HO5 := Lib.hid hO5
        have HU5 := Lib.hid hu5
        clear hp hO5 hf5 hR5 hx5 hk5 hu5 hX5 hV5 CE
        go_wp2_with fail
        refine (HFR.out w5 HV5.out.rd).mono ?_
        rintro e w6 ⟨A6, c6, D6, d6, rfl, hrdA, hrdD, hA6, hD6, hu6⟩
        clear y0 y1 y2 y3 y4 y5 HFR
        have uz : Up w6 (w6.alloc (.cells #[.int .i64 (sf.inn : Int), .int .i64 (sf.out : Int), .int .u32 (sf.sin : Int), .int .u32 (sf.sout : Int), .slice A6 nf c6, .int .i64 (sf.err : Int)] 33)) := (Up.refl w6).alloc _
        have sa := Rd.str (n := tf.length) (own_read (own_up HO5.out (hu6.trans uz))) rfl
        have sd := Rd.str (n := tf.length) (hrdD.up uz) rfl
        have HUZ := Lib.hid ((HU5.out.trans hu6).trans uz)
        clear hrdA hrdD hA6 hD6 uz
        go_wp2_with fail
        refine (AW.out _ HUZ.out).mono ?_
        rintro e w7 ⟨rfl, hy⟩
        go_wp2_with fail
        go_ret
        exact ⟨rfl, HUZ.out.trans hy⟩

end Go.Proofs.YtipemmjbgegmfaaGreatDoor
