/- The statements of stage 8: the forms again. -/
import Derived.Test.YtdhnjfkpehigiaaDoorNol
namespace Go.Proofs.YtdhnjfkpehigiaaDoor
open Go.RowKit Go.Proofs.YtdhnjfkpehigiaaDoor.Ordr Go.Proofs.YtdhnjfkpehigiaaDoor.Cmpr

theorem forms8 (l : List Nat) : nfcL (nfcL l) = nfcL l ∧ nfcL (nfdL l) = nfcL l ∧ nfdL (nfcL l) = nfdL l ∧ nfdL (nfdL l) = nfdL l :=
  ⟨Nrmr.nfc_nfc clsOf twoO good l, Nrmr.nfc_nfd clsOf twoO good l, Nrmr.nfd_nfc clsOf twoO good l, Nrmr.nfd_nfd clsOf twoO good l⟩

set_option maxRecDepth 100000 in
set_option maxHeartbeats 800000 in
theorem again_of8 (H : NormOk) (A : Option Addr) (n d : Nat) (l : List Nat) (w : World) (h : HRows w) (hr : Rd w A d (us l)) (hn : n = l.length) (hl : ∀ c ∈ l, c < 4294967296) :
    Calls Tryd.prog 7 #[.slice A n d] w fun e w' => e = .returned (.bool true) ∧ Up w w' := by
  have c4 := Lib.hid (fun w h => awake_8 H w h)
  by_cases hb : 300 < n
  · clear H hr hn hl
    go_enter Tryd.func7, Tryd.ntmps7
    go_wp2_with fail
    refine (c4.out _ h).mono ?_
    rintro e w1 ⟨rfl, hu⟩
    go_wp2_with fail
    go_ret
    exact ⟨rfl, hu⟩
  obtain ⟨f1, f2, f3, f4⟩ := forms8 l
  have lC := nfcL_len l
  have lD := nfdL_len l
  have tC := nfcL_lt l hl
  have tD := nfdL_lt l hl
  have a1 := H.nfc A n d l w h hr hn (by omega) hl
  have a2 := fun w' (u : Up w w') => H.nfd A n d l w' (h.up u) (hr.up u) hn (by omega) hl
  have cC := fun B e w' (u : Up w w') (hr : Rd w' B e (us (nfcL l))) => H.nfc B (nfcL l).length e (nfcL l) w' (h.up u) hr rfl (by omega) tC
  have cD := fun B e w' (u : Up w w') (hr : Rd w' B e (us (nfdL l))) => H.nfc B (nfdL l).length e (nfdL l) w' (h.up u) hr rfl (by omega) tD
  have dC := fun B e w' (u : Up w w') (hr : Rd w' B e (us (nfcL l))) => H.nfd B (nfcL l).length e (nfcL l) w' (h.up u) hr rfl (by omega) tC
  have dD := fun B e w' (u : Up w w') (hr : Rd w' B e (us (nfdL l))) => H.nfd B (nfdL l).length e (nfdL l) w' (h.up u) hr rfl (by omega) tD
  have iC := fun B e w' (u : Up w w') (hr : Rd w' B e (us (nfcL l))) => H.is B (nfcL l).length e (nfcL l) w' (h.up u) hr rfl (by omega) tC
  have sC := fun B e w' (u : Up w w') (hrr : Rd w' B e (us (nfcL l))) => H.same B A (nfcL l).length e n d (nfcL l) l w' (h.up u) hrr (hr.up u) rfl hn (by omega) (by omega) tC hl
  have sD := fun B e w' (u : Up w w') (hrr : Rd w' B e (us (nfdL l))) => H.same B A (nfdL l).length e n d (nfdL l) l w' (h.up u) hrr (hr.up u) rfl hn (by omega) (by omega) tD hl
  rw [f1] at cC
  rw [f2] at cD
  rw [f3] at dC
  rw [f4] at dD
  rw [decide_eq_true f1] at iC
  rw [decide_eq_true f3] at sC
  rw [decide_eq_true f4] at sD
  have A1 := Lib.hid a1
  have A2 := Lib.hid a2
  have CC := Lib.hid cC
  have CD := Lib.hid cD
  have DC := Lib.hid dC
  have DD := Lib.hid dD
  have IC := Lib.hid iC
  have SC := Lib.hid sC
  have SD := Lib.hid sD
  have hsm := Lib.hid (fun (M : List Nat) B1 B2 e1 e2 w' (h1 : Rd w' B1 e1 (us M)) (h2 : Rd w' B2 e2 (us M)) => show Calls Tryd.prog 18 #[.slice B1 M.length e1, .slice B2 M.length e2] w' fun e w'' => e = .returned (.bool true) ∧ Up w' w'' from by
    have hs := same_gen B1 B2 e1 e2 M.length M.length M M w' h1 h2 rfl rfl
    rwa [decide_eq_true (show M = M from rfl)] at hs)
  clear H hr hn hl a1 a2 cC cD dC dD iC sC sD f1 f2 f3 f4 lC lD tC tD
  generalize nfcL l = C at *
  generalize nfdL l = D at *
  go_enter Tryd.func7, Tryd.ntmps7
  go_wp2_with fail
  refine A1.out.mono ?_
  rintro e w1 ⟨B1, d1, rfl, hO1, hu1⟩
  have O1 := Lib.hid hO1
  clear hO1 A1
  go_wp2_with fail
  refine (A2.out w1 hu1).mono ?_
  rintro e w2 ⟨B2, d2, rfl, hO2, hu2⟩
  have O2 := Lib.hid hO2
  have RC := Lib.hid (fun w' (u : Up w2 w') => own_read (own_up O1.out (hu2.trans u)))
  have RD := Lib.hid (fun w' (u : Up w2 w') => own_read (own_up O2.out u))
  have hu02 := hu1.trans hu2
  clear hO2 O1 O2 A2 hu1 hu2
  have hx := Up.refl w2
  go_wp2_with fail
  refine (CC.out B1 d1 w2 hu02 (RC.out w2 hx)).mono ?_
  rintro e w3 ⟨B3, d3, rfl, hO3, hu3⟩
  have hx := hx.trans hu3
  have S := Lib.hid (hsm.out C B3 B1 d3 d1 w3 (own_read hO3) (RC.out w3 hx))
  clear hO3 hu3
  go_wp2_with fail
  refine S.out.mono ?_
  rintro e w4 ⟨rfl, hu4⟩
  have hx := hx.trans hu4
  clear S hu4
  go_wp2_with fail
  refine (CD.out B2 d2 w4 (hu02.trans hx) (RD.out w4 hx)).mono ?_
  rintro e w5 ⟨B3, d3, rfl, hO3, hu3⟩
  have hx := hx.trans hu3
  have S := Lib.hid (hsm.out C B3 B1 d3 d1 w5 (own_read hO3) (RC.out w5 hx))
  clear hO3 hu3
  go_wp2_with fail
  refine S.out.mono ?_
  rintro e w6 ⟨rfl, hu4⟩
  have hx := hx.trans hu4
  clear S hu4
  go_wp2_with fail
  refine (DC.out B1 d1 w6 (hu02.trans hx) (RC.out w6 hx)).mono ?_
  rintro e w7 ⟨B3, d3, rfl, hO3, hu3⟩
  have hx := hx.trans hu3
  have S := Lib.hid (hsm.out D B3 B2 d3 d2 w7 (own_read hO3) (RD.out w7 hx))
  clear hO3 hu3
  go_wp2_with fail
  refine S.out.mono ?_
  rintro e w8 ⟨rfl, hu4⟩
  have hx := hx.trans hu4
  clear S hu4
  go_wp2_with fail
  refine (DD.out B2 d2 w8 (hu02.trans hx) (RD.out w8 hx)).mono ?_
  rintro e w9 ⟨B3, d3, rfl, hO3, hu3⟩
  have hx := hx.trans hu3
  have S := Lib.hid (hsm.out D B3 B2 d3 d2 w9 (own_read hO3) (RD.out w9 hx))
  clear hO3 hu3
  go_wp2_with fail
  refine S.out.mono ?_
  rintro e w10 ⟨rfl, hu4⟩
  have hx := hx.trans hu4
  clear S hu4
  go_wp2_with fail
  refine (IC.out B1 d1 w10 (hu02.trans hx) (RC.out w10 hx)).mono ?_
  rintro e w11 ⟨rfl, hu4⟩
  have hx := hx.trans hu4
  clear hu4
  go_wp2_with fail
  refine (SC.out B1 d1 w11 (hu02.trans hx) (RC.out w11 hx)).mono ?_
  rintro e w12 ⟨rfl, hu4⟩
  have hx := hx.trans hu4
  clear hu4
  go_wp2_with fail
  refine (SD.out B2 d2 w12 (hu02.trans hx) (RD.out w12 hx)).mono ?_
  rintro e w13 ⟨rfl, hu4⟩
  have hx := hx.trans hu4
  clear hu4
  go_wp2_with fail
  refine (c4.out _ (h.up (hu02.trans hx))).mono ?_
  rintro e w14 ⟨rfl, hu5⟩
  go_wp2_with fail
  go_ret
  exact ⟨rfl, (hu02.trans hx).trans hu5⟩

end Go.Proofs.YtdhnjfkpehigiaaDoor
