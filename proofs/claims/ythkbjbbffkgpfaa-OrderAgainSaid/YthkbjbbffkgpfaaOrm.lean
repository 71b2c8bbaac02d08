/- The statements of stage 6: two walks more. -/
import Derived.Test.YthkbjbbffkgpfaaOrl
namespace Go.Proofs.Ythkbjbbffkgpfaa
open Go.RowKit Go.Proofs.Ythkbjbbffkgpfaa.Ordr

set_option maxRecDepth 100000 in
set_option maxHeartbeats 800000 in
theorem again_of6 (H : OrderOk) (A : Option Addr) (n d : Nat) (l : List Nat) (w : World) (hr : Rd w A d (us l)) (hn : n = l.length) (hl : ∀ c ∈ l, c < 4294967296) :
    Calls Try.prog 5 #[.slice A n d] w fun e w' => e = .returned (.bool true) ∧ Up w w' := by
  have c4 := Lib.hid (fun w => awake_6 H w)
  by_cases hb : 1000 < n
  · clear H hr hn hl
    go_enter Try.func5, Try.ntmps5
    go_wp2_with fail
    refine (c4.out _).mono ?_
    rintro e w1 ⟨rfl, hu⟩
    go_wp2_with fail
    go_ret
    exact ⟨rfl, hu⟩
  · have hol : n = (ord clsOf l).length := by rw [ord_len]; exact hn
    have hom : ∀ c ∈ ord clsOf l, c < 4294967296 := fun c hc => hl c ((ord_perm clsOf l).mem_iff.1 hc)
    have c1 := H.order A n d l w hr hn (by omega) hl
    unfold Gives at c1
    rw [← hol] at c1
    have C1 := Lib.hid c1
    have c2 := Lib.hid (fun B e w' (h : Rd w' B e (us (ord clsOf l))) => H.is B n e (ord clsOf l) w' h hol (by omega) hom)
    have c3 := fun B e w' (h : Rd w' B e (us (ord clsOf l))) => H.order B n e (ord clsOf l) w' h hol (by omega) hom
    unfold Gives at c3
    rw [ord_ord, ← hol] at c3
    have C3 := Lib.hid c3
    have c5 := Lib.hid (fun w' (u : Up w w') => H.is A n d l w' (hr.up u) hn (by omega) hl)
    rw [(ordB_iff clsOf (ord clsOf l)).2 (ord_is clsOf l)] at c2
    have hst : ordB clsOf l = true → ord clsOf l = l := fun h => ord_stay clsOf ((ordB_iff clsOf l).1 h)
    have R0 := Lib.hid hr
    have Hol := Lib.hid hol
    have Hn := Lib.hid hn
    clear H c1 c3 hr hol hn hom hl
    generalize ord clsOf l = O at *
    generalize hob : ordB clsOf l = ob at *
    clear hob
    cases ob with
    | true =>
      have e := hst rfl
      subst e
      clear hst
      go_enter Try.func5, Try.ntmps5
      go_wp2_with fail
      refine C1.out.mono ?_
      rintro e w1 ⟨B, d1, rfl, hO, hu1⟩
      have HO := Lib.hid hO
      have C2 := Lib.hid (c2.out B d1 w1 (own_read hO))
      clear hO C1
      go_wp2_with fail
      refine C2.out.mono ?_
      rintro e w2 ⟨rfl, hu2⟩
      have C4 := Lib.hid (C3.out B d1 w2 (own_read (own_up HO.out hu2)))
      clear C2 c2
      go_wp2_with fail
      refine C4.out.mono ?_
      rintro e w3 ⟨B3, d3, rfl, hO3, hu3⟩
      have hs := same_gen B3 B d3 d1 n n O O _ (own_read hO3) (own_read (own_up HO.out (hu2.trans hu3))) Hol.out Hol.out
      rw [decide_eq_true (show O = O from rfl)] at hs
      have HS := Lib.hid hs
      clear C4 C3 hs hO3
      go_wp2_with fail
      refine HS.out.mono ?_
      rintro e w4 ⟨rfl, hu4⟩
      have hu14 := (hu2.trans hu3).trans hu4
      clear hu2 hu3 hu4 HS
      go_wp2_with fail
      refine (c5.out _ (hu1.trans hu14)).mono ?_
      rintro e w5 ⟨rfl, hu5⟩
      have hs := same_gen B A d1 d n n O O _ (own_read (own_up HO.out (hu14.trans hu5))) (R0.out.up ((hu1.trans hu14).trans hu5)) Hol.out Hol.out
      rw [decide_eq_true (show O = O from rfl)] at hs
      have HS := Lib.hid hs
      clear hs
      go_wp2_with fail
      refine HS.out.mono ?_
      rintro e w6 ⟨rfl, hu6⟩
      go_wp2_with fail
      refine (c4.out _).mono ?_
      rintro e w7 ⟨rfl, hu7⟩
      go_wp2_with fail
      go_ret
      exact ⟨rfl, (((hu1.trans hu14).trans hu5).trans hu6).trans hu7⟩
    | false =>
      clear hst
      go_enter Try.func5, Try.ntmps5
      go_wp2_with fail
      refine C1.out.mono ?_
      rintro e w1 ⟨B, d1, rfl, hO, hu1⟩
      have HO := Lib.hid hO
      have C2 := Lib.hid (c2.out B d1 w1 (own_read hO))
      clear hO C1
      go_wp2_with fail
      refine C2.out.mono ?_
      rintro e w2 ⟨rfl, hu2⟩
      have C4 := Lib.hid (C3.out B d1 w2 (own_read (own_up HO.out hu2)))
      clear C2 c2
      go_wp2_with fail
      refine C4.out.mono ?_
      rintro e w3 ⟨B3, d3, rfl, hO3, hu3⟩
      have hs := same_gen B3 B d3 d1 n n O O _ (own_read hO3) (own_read (own_up HO.out (hu2.trans hu3))) Hol.out Hol.out
      rw [decide_eq_true (show O = O from rfl)] at hs
      have HS := Lib.hid hs
      clear C4 C3 hs hO3
      go_wp2_with fail
      refine HS.out.mono ?_
      rintro e w4 ⟨rfl, hu4⟩
      have hu14 := (hu2.trans hu3).trans hu4
      clear hu2 hu3 hu4 HS
      go_wp2_with fail
      refine (c5.out _ (hu1.trans hu14)).mono ?_
      rintro e w5 ⟨rfl, hu5⟩
      go_wp2_with fail
      refine (c4.out _).mono ?_
      rintro e w7 ⟨rfl, hu7⟩
      go_wp2_with fail
      go_ret
      exact ⟨rfl, ((hu1.trans hu14).trans hu5).trans hu7⟩

end Go.Proofs.Ythkbjbbffkgpfaa
