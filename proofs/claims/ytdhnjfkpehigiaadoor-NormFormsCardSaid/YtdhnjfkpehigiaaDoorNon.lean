/- The statements of stage 8: texts. -/
import Derived.Test.YtdhnjfkpehigiaaDoorNom
namespace Go.Proofs.YtdhnjfkpehigiaaDoor
open Go.RowKit Go.Proofs.YtdhnjfkpehigiaaDoor.Ordr Go.Proofs.YtdhnjfkpehigiaaDoor.Cmpr

set_option maxRecDepth 100000 in
set_option maxHeartbeats 800000 in
theorem texts_of8 (H : NormOk) (A : Option Addr) (n d : Nat) (l : List UInt8) (w : World) (h : HRows w) (hr : Rd w A d (bs l)) (hn : n = l.length) :
    Calls Tryd.prog 5 #[.slice A n d] w fun e w' => e = .returned (.bool true) ∧ Up w w' := by
  have c4 := Lib.hid (fun w h => awake_8 H w h)
  by_cases hb : 1000 < n
  · clear H hr hn
    go_enter Tryd.func5, Tryd.ntmps5
    go_wp2_with fail
    refine (c4.out _ h).mono ?_
    rintro e w1 ⟨rfl, hu⟩
    go_wp2_with fail
    go_ret
    exact ⟨rfl, hu⟩
  obtain ⟨B, d1, w1, hap, hrd1, hu1, _⟩ := elB.copy (m := n) w 28 hr (by rw [bs_len]; exact hn) (one_bs l) (by omega) (by omega)
  have HA := Lib.hid hap
  have c1 := Lib.hid (H.text B n d1 l w1 (h.up hu1) hrd1 hn (by omega))
  have c2 := Lib.hid (fun w' (u : Up w w') => ntext_ref A n d l w' (hr.up u) hn (by omega))
  have R1 := Lib.hid hrd1
  have R0 := Lib.hid hr
  have Hn := Lib.hid hn
  clear H hap hrd1 hr hn
  by_cases hf : 0 ≤ U.fault l
  · have hno := Lib.hid (fun w1 e w' (hp : TextP l w1 e w') => TextP.no hf hp)
    clear hf
    go_enter Tryd.func5, Tryd.ntmps5
    go_wp2_with (at_builtin; refine wpList_app rfl _ _ _ rfl rfl rfl HA.out ?_)
    refine c1.out.mono ?_
    intro e w2 hp
    obtain ⟨hu2, C, c, rfl, hr2⟩ := hno.out _ e w2 hp
    have HR2 := Lib.hid hr2
    clear hp c1 hr2
    go_wp2_with fail
    refine (c2.out w2 (hu1.trans hu2)).mono ?_
    intro e w3 hp
    obtain ⟨hu3, D, c3, rfl, hr3⟩ := hno.out _ e w3 hp
    have s1 := (HR2.out.up hu3).str (l := []) (n := 0) rfl
    have s2 := hr3.str (l := []) (n := 0) rfl
    have s3 := (R1.out.up (hu2.trans hu3)).str (n := n) Hn.out
    have s4 := (R0.out.up ((hu1.trans hu2).trans hu3)).str (n := n) Hn.out
    clear hp c2 hno hr3
    go_wp2_with fail
    refine (c4.out _ (h.up ((hu1.trans hu2).trans hu3))).mono ?_
    rintro e w4 ⟨rfl, hu4⟩
    go_wp2_with fail
    go_ret
    exact ⟨rfl, ((hu1.trans hu2).trans hu3).trans hu4⟩
  · obtain ⟨cs, hcs, hl⟩ := U.right_of (l := l) (by omega)
    have hyes := Lib.hid (fun w1 e w' (hp : TextP l w1 e w') => TextP.yes hcs (by rw [← hl]; exact hp))
    clear hf hl hcs
    generalize U.encs (nfcL cs) = F at *
    go_enter Tryd.func5, Tryd.ntmps5
    go_wp2_with (at_builtin; refine wpList_app rfl _ _ _ rfl rfl rfl HA.out ?_)
    refine c1.out.mono ?_
    intro e w2 hp
    obtain ⟨hu2, C, c, rfl, hr2⟩ := hyes.out _ e w2 hp
    have HR2 := Lib.hid hr2
    clear hp c1 hr2
    go_wp2_with fail
    refine (c2.out w2 (hu1.trans hu2)).mono ?_
    intro e w3 hp
    obtain ⟨hu3, D, c3, rfl, hr3⟩ := hyes.out _ e w3 hp
    have s1 := (HR2.out.up hu3).str (n := F.length) rfl
    have s2 := hr3.str (n := F.length) rfl
    have s3 := (R1.out.up (hu2.trans hu3)).str (n := n) Hn.out
    have s4 := (R0.out.up ((hu1.trans hu2).trans hu3)).str (n := n) Hn.out
    clear hp c2 hyes hr3
    go_wp2_with fail
    refine (c4.out _ (h.up ((hu1.trans hu2).trans hu3))).mono ?_
    rintro e w4 ⟨rfl, hu4⟩
    go_wp2_with fail
    go_ret
    exact ⟨rfl, ((hu1.trans hu2).trans hu3).trans hu4⟩

/-! ### Widths -/
theorem encs_wid {l : List Nat} (h : U.Cps l) : (U.encs l).length = widL l := by
  induction l with
  | nil => rfl
  | cons c l ih =>
    have hc := h.head
    rw [U.encs_cons, List.length_append, ih h.tail, U.enc_len hc]
    have : widL (c :: l) = widU c + widL l := by unfold widL; simp
    rw [this, widU_eq, U.wid_isCp hc]
theorem widL_flat (l : List Nat) : widL (l.flatMap full) ≤ 3 * widL l := by
  induction l with
  | nil => exact Nat.le_refl _
  | cons c l ih =>
    have h1 := full_wid c
    rw [List.flatMap_cons, widL_app]
    have : widL (c :: l) = widU c + widL l := by unfold widL; simp
    rw [this]
    omega
theorem widL_cons (c : Nat) (l : List Nat) : widL (c :: l) = widU c + widL l := by unfold widL; simp
theorem run_wid : ∀ (l : List Nat) (σ : St), widL (back (run clsOf twoO l σ)) ≤ widL (back σ) + widL l
  | [], σ => by show widL (back σ) ≤ _; omega
  | c :: l, σ => by
    have hs : widL (back (Cmpr.step clsOf twoO σ c)) ≤ widL (back σ) + widU c := by
      rcases step_cases clsOf twoO σ c with e | ⟨pre, s, mid, x, rfl, _, h2, e⟩
      · rw [e, back_keep, widL_cons]; omega
      · rw [e]
        have h3 := two_wid h2
        show widL (mid ++ x :: pre) ≤ widL (mid ++ s :: pre) + widU c
        rw [widL_app, widL_app, widL_cons, widL_cons]
        omega
    have ih := run_wid l (Cmpr.step clsOf twoO σ c)
    show widL (back (run clsOf twoO l (Cmpr.step clsOf twoO σ c))) ≤ _
    rw [widL_cons]
    omega
theorem comp_wid (l : List Nat) : widL (comp clsOf twoO l) ≤ widL l := by
  have h := run_wid l (none, [])
  have e : widL (comp clsOf twoO l) = widL (back (run clsOf twoO l (none, []))) := widL_perm (List.reverse_perm _)
  rw [e]
  have : widL (back ((none, []) : St)) = 0 := rfl
  omega
theorem nfc_wid (l : List Nat) : widL (nfcL l) ≤ 3 * widL l := by
  have h1 := comp_wid (nfdL l)
  have h2 : widL (nfdL l) = widL (l.flatMap full) := widL_perm (ord_perm clsOf _)
  have h3 := widL_flat l
  show widL (comp clsOf twoO (nfdL l)) ≤ _
  omega

set_option maxRecDepth 100000 in
set_option maxHeartbeats 800000 in
theorem bytes_of8 (H : NormOk) (A : Option Addr) (n d : Nat) (l : List UInt8) (w : World) (h : HRows w) (hr : Rd w A d (bs l)) (hn : n = l.length) :
    Calls Tryd.prog 10 #[.slice A n d] w fun e w' => e = .returned (.bool true) ∧ Up w w' := by
  have c4 := Lib.hid (fun w h => awake_8 H w h)
  by_cases hb : 500 < n
  · clear H hr hn
    go_enter Tryd.func10, Tryd.ntmps10
    go_wp2_with fail
    refine (c4.out _ h).mono ?_
    rintro e w1 ⟨rfl, hu⟩
    go_wp2_with fail
    go_ret
    exact ⟨rfl, hu⟩
  have c1 := Lib.hid (H.text A n d l w h hr hn (by omega))
  by_cases hf : 0 ≤ U.fault l
  · have hno := Lib.hid (fun w1 e w' (hp : TextP l w1 e w') => TextP.no hf hp)
    clear H hr hn hf
    go_enter Tryd.func10, Tryd.ntmps10
    go_wp2_with fail
    refine c1.out.mono ?_
    intro e w1 hp
    obtain ⟨hu1, C, c, rfl, -⟩ := hno.out _ e w1 hp
    clear hp c1 hno
    go_wp2_with fail
    refine (c4.out _ (h.up hu1)).mono ?_
    rintro e w2 ⟨rfl, hu2⟩
    go_wp2_with fail
    go_ret
    exact ⟨rfl, hu1.trans hu2⟩
  · obtain ⟨cs, hcs, hl⟩ := U.right_of (l := l) (by omega)
    have hF := nfcL_cps hcs
    have hlen : (U.encs (nfcL cs)).length ≤ 3 * n := by
      rw [hn, hl, encs_wid hF, encs_wid hcs]; exact nfc_wid cs
    have hyes := Lib.hid (fun w1 e w' (hp : TextP l w1 e w') => TextP.yes hcs (by rw [← hl]; exact hp))
    have hyes2 := fun w1 e w' (hp : TextP (U.encs (nfcL cs)) w1 e w') => TextP.yes hF hp
    rw [(forms8 cs).1] at hyes2
    have HY2 := Lib.hid hyes2
    have c2 := Lib.hid (fun B e w' (u : Up w w') (hr : Rd w' B e (bs (U.encs (nfcL cs)))) => H.text B (U.encs (nfcL cs)).length e (U.encs (nfcL cs)) w' (h.up u) hr rfl (by omega))
    clear H hr hn hf hl hcs hF hyes2
    generalize U.encs (nfcL cs) = F at *
    have hle : (decide ((F.length : Int) ≤ 3 * (n : Int))) = true := decide_eq_true (by omega)
    go_enter Tryd.func10, Tryd.ntmps10
    go_wp2_with fail
    refine c1.out.mono ?_
    intro e w1 hp
    obtain ⟨hu1, C, c, rfl, hr1⟩ := hyes.out _ e w1 hp
    have HR1 := Lib.hid hr1
    have C2 := Lib.hid (c2.out C c w1 hu1 hr1)
    clear hp c1 hyes hr1 c2
    go_wp2_with fail
    refine C2.out.mono ?_
    intro e w2 hp
    obtain ⟨hu2, D, c3, rfl, hr2⟩ := HY2.out _ e w2 hp
    have s1 := (HR1.out.up hu2).str (n := F.length) rfl
    have s2 := hr2.str (n := F.length) rfl
    clear hp C2 HY2 hr2
    go_wp2_with fail
    refine (c4.out _ (h.up (hu1.trans hu2))).mono ?_
    rintro e w3 ⟨rfl, hu3⟩
    go_wp2_with fail
    go_ret
    exact ⟨rfl, (hu1.trans hu2).trans hu3⟩

end Go.Proofs.YtdhnjfkpehigiaaDoor
