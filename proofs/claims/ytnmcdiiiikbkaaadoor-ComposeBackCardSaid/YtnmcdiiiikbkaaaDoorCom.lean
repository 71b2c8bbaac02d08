/- The statements of stage 7: composed and decomposed again. -/
import Derived.Test.YtnmcdiiiikbkaaaDoorCol
import Derived.Test.YtnmcdiiiikbkaaaDoorOrv
import Derived.Test.YtnmcdiiiikbkaaaDoorDca
import Derived.Test.YtnmcdiiiikbkaaaDoorDlw
namespace Go.Proofs.YtnmcdiiiikbkaaaDoor
open Go.RowKit Go.Proofs.YtnmcdiiiikbkaaaDoor.Ordr Go.Proofs.YtnmcdiiiikbkaaaDoor.Cmpr

/-- What the forms of a list are: facts on their lengths and values. -/
structure Forms (l F D C F2 : List Nat) : Prop where
  f : F = l.flatMap full
  d : D = ord clsOf F
  c : C = comp clsOf twoO D
  f2 : F2 = C.flatMap full
  back : ord clsOf F2 = D
  again : comp clsOf twoO C = C
  lF : F.length ≤ 4 * l.length
  lD : D.length = F.length
  lC : C.length ≤ D.length
  lF2 : F2.length ≤ 4 * C.length
  tF : ∀ y ∈ F, y < 4294967296
  tD : ∀ y ∈ D, y < 4294967296
  tC : ∀ y ∈ C, y < 4294967296
  tF2 : ∀ y ∈ F2, y < 4294967296
theorem forms_of (l : List Nat) (hl : ∀ c ∈ l, c < 4294967296) : ∃ F D C F2, Forms l F D C F2 := by
  have hFt := flat_lt l hl
  have hDt : ∀ y ∈ ord clsOf (l.flatMap full), y < 4294967296 := fun y hy => hFt y ((ord_perm clsOf _).mem_iff.1 hy)
  have hCt := comp_lt _ hDt
  have hw : ∀ y ∈ ord clsOf (l.flatMap full), full y = [y] := Nrmr.nfd_whole clsOf twoO good l
  refine ⟨_, _, _, _, rfl, rfl, rfl, rfl, ?_, ?_, flat_full_len l, ord_len clsOf _, comp_len clsOf twoO _, flat_full_len _, hFt, hDt, hCt, flat_lt _ hCt⟩
  · exact Cmpr.comp_back clsOf twoO good hw (ord_is clsOf _)
  · exact Cmpr.comp_again clsOf twoO good hw (ord_is clsOf _)

set_option maxRecDepth 100000 in
set_option maxHeartbeats 800000 in
theorem back_of7 (H7 : ComposeOk) (H6 : OrderOk) (HD : DecompOk) (A : Option Addr) (n d : Nat) (l : List Nat) (w : World) (h : HRows w) (hr : Rd w A d (us l)) (hn : n = l.length) (hl : ∀ c ∈ l, c < 4294967296) :
    Calls Tryd.prog 11 #[.slice A n d] w fun e w' => e = .returned (.bool true) ∧ Up w w' := by
  have c4 := Lib.hid (fun w h => awake_7 H7 w h)
  by_cases hb : 500 < n
  · clear H7 H6 HD hr hn hl
    go_enter Tryd.func11, Tryd.ntmps11
    go_wp2_with fail
    refine (c4.out _ h).mono ?_
    rintro e w1 ⟨rfl, hu⟩
    go_wp2_with fail
    go_ret
    exact ⟨rfl, hu⟩
  obtain ⟨F, D, C, F2, X⟩ := forms_of l hl
  have lF := X.lF
  have lD := X.lD
  have lC := X.lC
  have lF2 := X.lF2
  have c1 := Lib.hid (HD.list A n d l w h hr hn (by omega) hl)
  have c2 := Lib.hid (fun B e w' (hr : Rd w' B e (us F)) => H6.order B F.length e F w' hr rfl (by omega) X.tF)
  have c3 := Lib.hid (fun B e w' (u : Up w w') (hr : Rd w' B e (us D)) => H7.compose B D.length e D w' (h.up u) hr rfl (by omega) X.tD)
  have c5 := Lib.hid (fun B e w' (u : Up w w') (hr : Rd w' B e (us C)) => HD.list B C.length e C w' (h.up u) hr rfl (by omega) X.tC)
  have c6 := Lib.hid (fun B e w' (hr : Rd w' B e (us F2)) => H6.order B F2.length e F2 w' hr rfl (by omega) X.tF2)
  rw [← X.f] at c1
  rw [← X.d] at c2
  rw [← X.c] at c3
  rw [← X.f2] at c5
  rw [X.back] at c6
  clear X H7 H6 HD hr hn hl lF lD lF2
  go_enter Tryd.func11, Tryd.ntmps11
  go_wp2_with fail
  refine c1.out.mono ?_
  rintro e w1 ⟨B1, d1, rfl, hO, hu1⟩
  have C2 := Lib.hid (c2.out B1 d1 w1 (own_read hO))
  clear hO c1 c2
  go_wp2_with fail
  refine C2.out.mono ?_
  rintro e w2 ⟨B2, d2, rfl, hO2, hu2⟩
  have HO2 := Lib.hid hO2
  have hu02 := hu1.trans hu2
  have C3 := Lib.hid (c3.out B2 d2 w2 hu02 (own_read hO2))
  clear hO2 c3 C2 hu1 hu2
  go_wp2_with fail
  refine C3.out.mono ?_
  rintro e w3 ⟨B3, d3, rfl, hO3, hu3⟩
  have C5 := Lib.hid (c5.out B3 d3 w3 (hu02.trans hu3) (own_read hO3))
  clear hO3 c5 C3
  go_wp2_with fail
  refine C5.out.mono ?_
  rintro e w4 ⟨B4, d4, rfl, hO4, hu4⟩
  have C6 := Lib.hid (c6.out B4 d4 w4 (own_read hO4))
  clear hO4 c6 C5
  go_wp2_with fail
  refine C6.out.mono ?_
  rintro e w5 ⟨B5, d5, rfl, hO5, hu5⟩
  have hu25 := (hu3.trans hu4).trans hu5
  have hs := same_gen B5 B2 d5 d2 D.length D.length D D _ (own_read hO5) (own_read (own_up HO2.out hu25)) rfl rfl
  rw [decide_eq_true (show D = D from rfl)] at hs
  have HS := Lib.hid hs
  clear hs hO5 C6 HO2
  go_wp2_with fail
  refine HS.out.mono ?_
  rintro e w6 ⟨rfl, hu6⟩
  go_wp2_with fail
  refine (c4.out _ (h.up ((hu02.trans hu25).trans hu6))).mono ?_
  rintro e w7 ⟨rfl, hu7⟩
  go_wp2_with fail
  go_ret
  exact ⟨rfl, ((hu02.trans hu25).trans hu6).trans hu7⟩

set_option maxRecDepth 100000 in
set_option maxHeartbeats 800000 in
theorem again_of7 (H7 : ComposeOk) (H6 : OrderOk) (HD : DecompOk) (A : Option Addr) (n d : Nat) (l : List Nat) (w : World) (h : HRows w) (hr : Rd w A d (us l)) (hn : n = l.length) (hl : ∀ c ∈ l, c < 4294967296) :
    Calls Tryd.prog 12 #[.slice A n d] w fun e w' => e = .returned (.bool true) ∧ Up w w' := by
  have c4 := Lib.hid (fun w h => awake_7 H7 w h)
  by_cases hb : 500 < n
  · clear H7 H6 HD hr hn hl
    go_enter Tryd.func12, Tryd.ntmps12
    go_wp2_with fail
    refine (c4.out _ h).mono ?_
    rintro e w1 ⟨rfl, hu⟩
    go_wp2_with fail
    go_ret
    exact ⟨rfl, hu⟩
  obtain ⟨F, D, C, F2, X⟩ := forms_of l hl
  have lF := X.lF
  have lD := X.lD
  have lC := X.lC
  have lF2 := X.lF2
  have c1 := Lib.hid (HD.list A n d l w h hr hn (by omega) hl)
  have c2 := Lib.hid (fun B e w' (hr : Rd w' B e (us F)) => H6.order B F.length e F w' hr rfl (by omega) X.tF)
  have c3 := Lib.hid (fun B e w' (u : Up w w') (hr : Rd w' B e (us D)) => H7.compose B D.length e D w' (h.up u) hr rfl (by omega) X.tD)
  have c7 := Lib.hid (fun B e w' (u : Up w w') (hr : Rd w' B e (us C)) => H7.compose B C.length e C w' (h.up u) hr rfl (by omega) X.tC)
  have c5 := Lib.hid (fun B e w' (u : Up w w') (hr : Rd w' B e (us C)) => HD.list B C.length e C w' (h.up u) hr rfl (by omega) X.tC)
  have c6 := Lib.hid (fun B e w' (hr : Rd w' B e (us F2)) => H6.order B F2.length e F2 w' hr rfl (by omega) X.tF2)
  rw [← X.f] at c1
  rw [← X.d] at c2
  rw [← X.c] at c3
  rw [X.again] at c7
  rw [← X.f2] at c5
  rw [X.back] at c6
  clear X H7 H6 HD hr hn hl lF lD lF2
  go_enter Tryd.func12, Tryd.ntmps12
  go_wp2_with fail
  refine c1.out.mono ?_
  rintro e w1 ⟨B1, d1, rfl, hO, hu1⟩
  have C2 := Lib.hid (c2.out B1 d1 w1 (own_read hO))
  clear hO c1 c2
  go_wp2_with fail
  refine C2.out.mono ?_
  rintro e w2 ⟨B2, d2, rfl, hO2, hu2⟩
  have hu02 := hu1.trans hu2
  have C3 := Lib.hid (c3.out B2 d2 w2 hu02 (own_read hO2))
  clear hO2 C2 hu1 hu2
  go_wp2_with fail
  refine C3.out.mono ?_
  rintro e w3 ⟨B3, d3, rfl, hO3, hu3⟩
  have HO3 := Lib.hid hO3
  have hu03 := hu02.trans hu3
  have C7 := Lib.hid (c7.out B3 d3 w3 hu03 (own_read hO3))
  clear hO3 C3 c7 hu02 hu3
  go_wp2_with fail
  refine C7.out.mono ?_
  rintro e w4 ⟨B4, d4, rfl, hO4, hu4⟩
  have hs := same_gen B4 B3 d4 d3 C.length C.length C C _ (own_read hO4) (own_read (own_up HO3.out hu4)) rfl rfl
  rw [decide_eq_true (show C = C from rfl)] at hs
  have HS := Lib.hid hs
  clear hs hO4 C7
  go_wp2_with fail
  refine HS.out.mono ?_
  rintro e w5 ⟨rfl, hu5⟩
  have hu35 := hu4.trans hu5
  have C5 := Lib.hid (c5.out B3 d3 w5 (hu03.trans hu35) (own_read (own_up HO3.out hu35)))
  clear HS hu4 hu5 c5
  go_wp2_with fail
  refine C5.out.mono ?_
  rintro e w6 ⟨B6, d6, rfl, hO6, hu6⟩
  have C6 := Lib.hid (c6.out B6 d6 w6 (own_read hO6))
  clear hO6 c6 C5
  go_wp2_with fail
  refine C6.out.mono ?_
  rintro e w7 ⟨B7, d7, rfl, hO7, hu7⟩
  have hu37 := (hu35.trans hu6).trans hu7
  have C8 := Lib.hid (c3.out B7 d7 w7 (hu03.trans hu37) (own_read hO7))
  clear hO7 C6 c3 hu35 hu6 hu7
  go_wp2_with fail
  refine C8.out.mono ?_
  rintro e w8 ⟨B8, d8, rfl, hO8, hu8⟩
  have hu38 := hu37.trans hu8
  have hs := same_gen B8 B3 d8 d3 C.length C.length C C _ (own_read hO8) (own_read (own_up HO3.out hu38)) rfl rfl
  rw [decide_eq_true (show C = C from rfl)] at hs
  have HS := Lib.hid hs
  clear hs hO8 C8 HO3 hu37 hu8
  go_wp2_with fail
  refine HS.out.mono ?_
  rintro e w9 ⟨rfl, hu9⟩
  go_wp2_with fail
  refine (c4.out _ (h.up ((hu03.trans hu38).trans hu9))).mono ?_
  rintro e w10 ⟨rfl, hu10⟩
  go_wp2_with fail
  go_ret
  exact ⟨rfl, ((hu03.trans hu38).trans hu9).trans hu10⟩

end Go.Proofs.YtnmcdiiiikbkaaaDoor
