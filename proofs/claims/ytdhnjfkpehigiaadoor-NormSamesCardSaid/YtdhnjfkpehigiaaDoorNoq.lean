/- The statements of stage 8: the forms, as the document says. -/
import Derived.Test.YtdhnjfkpehigiaaDoorNol
namespace Go.Proofs.YtdhnjfkpehigiaaDoor
open Go.RowKit Go.Proofs.YtdhnjfkpehigiaaDoor.Ordr Go.Proofs.YtdhnjfkpehigiaaDoor.Cmpr

set_option maxRecDepth 100000 in
set_option maxHeartbeats 1600000 in
theorem forms_of8 (H : NormOk) (A : Option Addr) (n d : Nat) (l : List Nat) (w : World) (h : HRows w) (hr : Rd w A d (us l)) (hn : n = l.length) (hl : ∀ c ∈ l, c < 4294967296) (_hmax : n ≤ d) (_hd : d * 4 ≤ 140737488351232) :
    Calls Tryd.prog 3 #[.slice A n d] w fun e w' => e = .returned (.bool true) ∧ Up w w' := by
  have c4 := Lib.hid (fun w h => awake_8 H w h)
  by_cases hb : 500 < n
  · clear H hr hn hl
    go_enter Tryd.func3, Tryd.ntmps3
    go_wp2_with fail
    refine (c4.out _ h).mono ?_
    rintro e w1 ⟨rfl, hu⟩
    go_wp2_with fail
    go_ret
    exact ⟨rfl, hu⟩
  obtain ⟨B, d1, w1, hap, hrd1, hu1, _⟩ := elU.copy (m := n) w 22 hr (by rw [us_len]; exact hn) (one_us l) (by omega) (by omega)
  have HA := Lib.hid hap
  have c1 := Lib.hid (H.nfc B n d1 l w1 (h.up hu1) hrd1 hn (by omega) hl)
  have c2 := Lib.hid (fun w' (u : Up w1 w') => H.nfd B n d1 l w' (h.up (hu1.trans u)) (hrd1.up u) hn (by omega) hl)
  have c3 := Lib.hid (fun w' (u : Up w1 w') => H.is B n d1 l w' (h.up (hu1.trans u)) (hrd1.up u) hn (by omega) hl)
  have r1 := Lib.hid (fun w' (u : Up w w') => nfc_ref A n d l w' (hr.up u) hn (by omega))
  have r2 := Lib.hid (fun w' (u : Up w w') => nfd_ref A n d l w' (hr.up u) hn (by omega))
  have r3 := Lib.hid (fun w' (u : Up w w') => nis_ref A n d l w' (hr.up u) hn (by omega))
  have hsm := Lib.hid (fun (M : List Nat) B1 B2 e1 e2 w' (h1 : Rd w' B1 e1 (us M)) (h2 : Rd w' B2 e2 (us M)) => show Calls Tryd.prog 18 #[.slice B1 M.length e1, .slice B2 M.length e2] w' fun e w'' => e = .returned (.bool true) ∧ Up w' w'' from by
    have hs := same_gen B1 B2 e1 e2 M.length M.length M M w' h1 h2 rfl rfl
    rwa [decide_eq_true (show M = M from rfl)] at hs)
  have R1 := Lib.hid hrd1
  have R0 := Lib.hid hr
  have Hn := Lib.hid hn
  have LC := nfcL_len l
  have LD := nfdL_len l
  have HCT := Lib.hid (nfcL_lt l hl)
  have HDT := Lib.hid (nfdL_lt l hl)
  have hCm : (nfcL l).length ≤ 2000 := by omega
  have hDm : (nfdL l).length ≤ 2000 := by omega
  clear H hap hrd1 hr hl hn LC LD
  generalize decide (nfcL l = l) = o at *
  generalize nfcL l = C at *
  generalize nfdL l = D at *
  go_enter Tryd.func3, Tryd.ntmps3
  go_wp2_with (at_builtin; refine wpList_app rfl _ _ _ rfl rfl rfl HA.out ?_)
  refine c1.out.mono ?_
  rintro e w2 ⟨BC, dC, rfl, hOC, hu12⟩
  have OC := Lib.hid hOC
  clear hOC c1
  go_wp2_with fail
  refine (c2.out w2 hu12).mono ?_
  rintro e w3 ⟨BD, dD, rfl, hOD, hu23⟩
  have OC3 := Lib.hid (own_up OC.out hu23)
  have hCb := Lib.hid (fun h0 => own_addr OC.out h0)
  have OD := Lib.hid hOD
  have hu13 := hu12.trans hu23
  clear hOD OC c2
  go_wp2_with fail
  refine (r1.out w3 (hu1.trans hu13)).mono ?_
  rintro e w4 ⟨F1, e1, rfl, hF1, hu4⟩
  have S := Lib.hid (hsm.out C BC F1 dC e1 w4 (own_read (own_up OC3.out hu4)) (own_read hF1))
  have OC4 := Lib.hid (own_up OC3.out hu4)
  have OD4 := Lib.hid (own_up OD.out hu4)
  have hu14 := hu13.trans hu4
  clear hF1 hu4 OC3 OD r1 hu13
  go_wp2_with fail
  refine S.out.mono ?_
  rintro e w5 ⟨rfl, hu5⟩
  have OC5 := Lib.hid (own_up OC4.out hu5)
  have OD5 := Lib.hid (own_up OD4.out hu5)
  have hu15 := hu14.trans hu5
  clear S hu5 OC4 OD4 hu14
  go_wp2_with fail
  refine (r2.out w5 (hu1.trans hu15)).mono ?_
  rintro e w6 ⟨F1, e1, rfl, hF1, hu6⟩
  have S := Lib.hid (hsm.out D BD F1 dD e1 w6 (own_read (own_up OD5.out hu6)) (own_read hF1))
  have OC6 := Lib.hid (own_up OC5.out hu6)
  have OD6 := Lib.hid (own_up OD5.out hu6)
  have hu16 := hu15.trans hu6
  clear hF1 hu6 OC5 OD5 r2 hu15
  go_wp2_with fail
  refine S.out.mono ?_
  rintro e w7 ⟨rfl, hu7⟩
  have OC7 := Lib.hid (own_up OC6.out hu7)
  have OD7 := Lib.hid (own_up OD6.out hu7)
  have hu17 := hu16.trans hu7
  clear S hu7 OC6 OD6 hu16
  go_wp2_with fail
  refine (c3.out w7 hu17).mono ?_
  rintro e w8 ⟨rfl, hu8⟩
  have OC8 := Lib.hid (own_up OC7.out hu8)
  have OD8 := Lib.hid (own_up OD7.out hu8)
  have hu18 := hu17.trans hu8
  clear hu8 OC7 OD7 hu17 c3
  go_wp2_with fail
  refine (r3.out w8 (hu1.trans hu18)).mono ?_
  rintro e w9 ⟨rfl, hu9⟩
  have OC9 := Lib.hid (own_up OC8.out hu9)
  have OD9 := Lib.hid (own_up OD8.out hu9)
  have hu19 := hu18.trans hu9
  clear hu9 OC8 OD8 hu18 r3
  generalize hmC : C.length = mC at *
  generalize hmD : D.length = mD at *
  have FC := Lib.hid hmC
  have FD := Lib.hid hmD
  clear hmC hmD
  go_wp2_with fail
  go_loopw [7] (fun i wr => ∃ (k : Nat) (ys : List Nat), k ≤ mC ∧ i = .int .i64 (k : Int) ∧ Hid (ys.length = mC) ∧ Hid (wr.ownsRow w1.heap.size 27 1 (.slice BC mC dC) mC (us ys)) ∧ Hid (wr.ownsRow w2.heap.size 27 1 (.slice BD mD dD) mD (us D)) ∧ Up w1 wr) (fun i _ => mC - (intOf i).toNat)
  case atStart => exact ⟨0, C, by omega, rfl, FC, OC9, OD9, hu19⟩
  case round =>
    obtain ⟨k, ys, hk, rfl, hys, hown, hoD, hux⟩ := hrel
    clear OC9 OD9 hu19 FC
    by_cases hlt : k < mC
    · obtain ⟨g, rfl, hg1, hg2⟩ := hCb.out (by omega)
      have hkl : k < ys.length := by rw [hys.out]; exact hlt
      have hcell : wr.cell? ⟨g, k, none⟩ = some (.int .u32 (ys[k] : Int)) := (hown.out.cellAt k (by omega)).trans (us_get ys k hkl)
      have hfr : wr.frozen? ⟨g, k, none⟩ = false := hown.out.frozenAt k
      generalize ys[k] = y at *
      have HB := Lib.hid (fun z hz => own_bump hown.out k z hz)
      have HD := Lib.hid (fun u => ownsRow_setCell_below (a := ⟨g, k, none⟩) hoD.out hg2 u)
      have HU := Lib.hid (fun u => Up.setCell hux hg1 k u)
      clear hown hoD hCb
      go_wp2_with fail
      go_roundw
      case rel => exact ⟨k + 1, _, by omega, by go_num, Lib.hid (by rw [List.length_set]; exact hys.out), Lib.hid (HB.out _ (by omega)), Lib.hid (HD.out _), HU.out _⟩
      case measure => simp [intOf]; omega
    · clear hown hys hCb
      go_wp2_with fail
      go_loopw [8] (fun i wr2 => ∃ (k : Nat) (ys : List Nat), k ≤ mD ∧ i = .int .i64 (k : Int) ∧ Hid (ys.length = mD) ∧ Hid (wr2.ownsRow w2.heap.size 27 1 (.slice BD mD dD) mD (us ys)) ∧ Up w1 wr2) (fun i _ => mD - (intOf i).toNat)
      case atStart => exact ⟨0, D, by omega, rfl, FD, hoD, hux⟩
      case round =>
        obtain ⟨k2, ys2, hk2, rfl, hys2, hown2, hux2⟩ := hrel
        clear hoD hux FD
        by_cases hlt2 : k2 < mD
        · obtain ⟨g, rfl, hg1, hg2⟩ := own_addr hown2.out (by omega)
          have hg3 : w1.heap.size ≤ g := Nat.le_trans hu12.size hg1
          have hkl : k2 < ys2.length := by rw [hys2.out]; exact hlt2
          have hcell : wr.cell? ⟨g, k2, none⟩ = some (.int .u32 (ys2[k2] : Int)) := (hown2.out.cellAt k2 (by omega)).trans (us_get ys2 k2 hkl)
          have hfr : wr.frozen? ⟨g, k2, none⟩ = false := hown2.out.frozenAt k2
          generalize ys2[k2] = y at *
          have HB := Lib.hid (fun z hz => own_bump hown2.out k2 z hz)
          have HU := Lib.hid (fun u => Up.setCell hux2 hg3 k2 u)
          clear hown2
          go_wp2_with fail
          go_roundw
          case rel => exact ⟨k2 + 1, _, by omega, by go_num, Lib.hid (by rw [List.length_set]; exact hys2.out), Lib.hid (HB.out _ (by omega)), HU.out _⟩
          case measure => simp [intOf]; omega
        · have hs := same_gen B A d1 d n n l l _ (R1.out.up hux2) (R0.out.up (hu1.trans hux2)) Hn.out Hn.out
          rw [decide_eq_true (show l = l from rfl)] at hs
          have HS := Lib.hid hs
          clear hs hown2 hys2
          go_wp2_with fail
          refine HS.out.mono ?_
          rintro e w10 ⟨rfl, hu10⟩
          go_wp2_with fail
          refine (c4.out _ (h.up ((hu1.trans hux2).trans hu10))).mono ?_
          rintro e w11 ⟨rfl, hu11⟩
          go_wp2_with fail
          go_ret
          exact ⟨rfl, ((hu1.trans hux2).trans hu10).trans hu11⟩

end Go.Proofs.YtdhnjfkpehigiaaDoor
