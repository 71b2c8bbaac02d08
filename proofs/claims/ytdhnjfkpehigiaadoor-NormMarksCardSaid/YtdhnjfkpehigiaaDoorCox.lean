/- The document's Compose; what is asked of the program's compose. -/
import Derived.Test.YtdhnjfkpehigiaaDoorCow
import Derived.Test.YtdhnjfkpehigiaaDoorBas
namespace Go.Proofs.YtdhnjfkpehigiaaDoor
open Go.RowKit Go.Proofs.YtdhnjfkpehigiaaDoor.Ordr Go.Proofs.YtdhnjfkpehigiaaDoor.Cmpr

/-- The place of the last starter, written anew. -/
theorem own_place {w : World} {base g n d : Nat} {pre mid : List Nat} {s : Nat} (x : Nat) (h : w.ownsRow base 27 1 (.slice (some ⟨g, 0, none⟩) n d) n (us (back (some (pre, s), mid)).reverse)) :
    (w.setCell ⟨g, pre.length, none⟩ (.int .u32 (x : Int))).ownsRow base 27 1 (.slice (some ⟨g, 0, none⟩) n d) n (us (back (some (pre, x), mid)).reverse) := by
  have h1 := own_bump h pre.length (x : Int) (by omega)
  have e : (back (some (pre, s), mid)).reverse.set pre.length (x : Int).toNat = (back (some (pre, x), mid)).reverse := by
    unfold back
    simp only [List.reverse_append, List.reverse_cons, List.append_assoc, List.singleton_append, Int.toNat_natCast]
    rw [List.set_append_right _ _ (by simp), List.length_reverse, Nat.sub_self, List.set_cons_zero]
  rwa [e] at h1

/-- One number is appended to what a call made. -/
theorem own_push {w wz : World} {v : Value} {p : Nat} {L : List Nat} (hO : wz.ownsRow w.heap.size 27 1 v p (us L)) (hp : p ≤ 100000) (hu : Up w wz) (x : Nat) :
    ∃ B d w4, (Builtin.append_ #[22, 22] 22 #[v, .slice (some ⟨wz.heap.size, 0, none⟩) 1 1]).run Tryd.prog (wz.alloc (.cells #[.int .u32 (x : Int)] 27)) = .ok (.slice B (p + 1) d) w4 ∧
      w4.ownsRow w.heap.size 27 1 (.slice B (p + 1) d) (p + 1) (us (L ++ [x])) ∧ Up w w4 := by
  obtain ⟨v', w4, h1, h2, h3⟩ := elU.push wz 22 hO #[.int .u32 (x : Int)] 1 rfl (by omega) (by simp [Value.oneCell']) (by omega) (by omega) hu.size
  rw [show us L ++ (#[Value.int .u32 (x : Int)] : Array Value).toList = us (L ++ [x]) from by simp [us]] at h2
  obtain ⟨B, d, rfl, _⟩ := own_rd h2
  exact ⟨B, d, w4, h1, h2, (hu.alloc _).own h3 (fun k e => (hO.lt k e).1)⟩

set_option maxRecDepth 100000 in
set_option maxHeartbeats 1600000 in
theorem compose_ref (A : Option Addr) (n d : Nat) (l : List Nat) (w : World) (h : Rd w A d (us l)) (hn : n = l.length) (hmax : n ≤ 100000) :
    Calls Tryd.prog 43 #[.slice A n d] w (Gives (comp clsOf twoO l) w) := by
  have HC := Lib.hid class_ref
  have HB := Lib.hid blocked_ref
  have H2 := Lib.hid two_ref
  have H := Lib.hid h
  have Hn := Lib.hid hn
  have hf := h.fit
  rw [us_len, ← hn] at hf
  have HS := Lib.hid (fun k (hk : k < l.length) => show run clsOf twoO (l.take (k + 1)) (none, []) = Cmpr.step clsOf twoO (run clsOf twoO (l.take k) (none, [])) l[k] from by
    rw [List.take_succ_eq_append_getElem hk, run_snoc])
  have HL := Lib.hid (fun k => show (back (run clsOf twoO (l.take k) (none, []))).length ≤ k from by
    have h1 := run_len clsOf twoO (l.take k) (none, [])
    rw [show (back ((none, []) : St)).length = 0 from rfl, List.length_take] at h1
    omega)
  have hco : comp clsOf twoO l = (back (run clsOf twoO l (none, []))).reverse := rfl
  have Hco := Lib.hid hco
  clear h hn hco
  generalize comp clsOf twoO l = res at *
  go_enter Tryd.func43, Tryd.ntmps43
  go_wp2_with fail
  go_loopw [3, 4, 5] (fun v st i wr => ∃ (k : Nat) (σ : St), k ≤ n ∧ i = .int .i64 (k : Int) ∧ st = .int .i64 (stOf σ) ∧ Hid (σ = run clsOf twoO (l.take k) (none, [])) ∧ Hid (wr.ownsRow w.heap.size 27 1 v (back σ).length (us (back σ).reverse)) ∧ Up w wr) (fun _ _ i _ => n - (intOf i).toNat)
  case atStart => exact ⟨0, (none, []), by omega, rfl, rfl, Lib.hid rfl, Lib.hid (World.ownsRow_nil w _ _ 1), Up.refl w⟩
  case round =>
    obtain ⟨k, σ, hk, rfl, rfl, hσ, hO, hu⟩ := hrel
    by_cases hlt : k < n
    · have hkl : k < l.length := by rw [← Hn.out]; exact hlt
      obtain ⟨a, rfl, _⟩ := H.out.ad (by omega)
      have hcell : wr.cell? (a.add k) = some (.int .u32 (l[k] : Int)) := (H.out.up hu).cell a rfl k _ (us_get l k hkl)
      have hS := HS.out k hkl
      have hL := HL.out k
      rw [← hσ.out] at hS hL
      have hp : (back σ).length ≤ 100000 := by omega
      obtain ⟨B, e, rfl, hrd⟩ := own_rd hO.out
      clear HS HL hσ hL
      generalize l[k] = x at *
      have HSx := Lib.hid hS
      clear hS
      -- what is done where x is kept
      have stk := stOf_keep clsOf σ x
      have bk := back_keep clsOf σ x
      have C1 := Lib.hid (HC.out x)
      clear HC hrd
      obtain ⟨o, mid⟩ := σ
      rcases o with _ | ⟨pre, s⟩
      -- no starter yet
      · have hkp : Hid (run clsOf twoO (l.take (k + 1)) (none, []) = Cmpr.keep clsOf (none, mid) x) := Lib.hid (HSx.out.trans rfl)
        have hst : stOf ((none, mid) : St) = -1 := rfl
        obtain ⟨B4, e4, w4, hap, hO4, hu4⟩ := own_push hO.out hp hu x
        have HA := Lib.hid hap
        have HO4 := Lib.hid hO4
        rw [hst] at stk ⊢
        clear HSx HB H2 hap hO4 hst
        go_wp2_with (at_builtin; refine wpList_app rfl _ _ _ rfl rfl rfl HA.out ?_)
        clear HA
        generalize hq : (back ((none, mid) : St)).length = q at *
        have Hq := Lib.hid hq
        clear hq
        by_cases hc0 : clsOf x = 0
        · have hcb : ((clsOf x : Int) == 0) = true := by simp [hc0]
          rw [if_pos hc0] at stk
          have Stk := Lib.hid stk
          have Bk := Lib.hid bk
          clear stk bk hc0
          generalize clsOf x = y at *
          refine (C1.out _).mono ?_
          rintro e5 w5 ⟨rfl, hu5⟩
          go_wp2_with fail
          go_roundw
          case rel =>
            refine ⟨k + 1, Cmpr.keep clsOf ((none, mid) : St) x, by omega, by go_num, ?_, Lib.hid hkp.out.symm, Lib.hid ?_, hu4.trans hu5⟩
            · rw [Stk.out]
            · rw [Bk.out, List.length_cons, Hq.out, List.reverse_cons]
              exact own_up HO4.out hu5
          case measure => simp [intOf]; omega
        · have hcb : ((clsOf x : Int) == 0) = false := by simp; omega
          rw [if_neg hc0] at stk
          have Stk := Lib.hid stk
          have Bk := Lib.hid bk
          clear stk bk hc0
          generalize clsOf x = y at *
          refine (C1.out _).mono ?_
          rintro e5 w5 ⟨rfl, hu5⟩
          go_wp2_with fail
          go_roundw
          case rel =>
            refine ⟨k + 1, Cmpr.keep clsOf ((none, mid) : St) x, by omega, by go_num, ?_, Lib.hid hkp.out.symm, Lib.hid ?_, hu4.trans hu5⟩
            · rw [Stk.out]
            · rw [Bk.out, List.length_cons, Hq.out, List.reverse_cons]
              exact own_up HO4.out hu5
          case measure => simp [intOf]; omega
      -- a starter
      · have hst : stOf ((some (pre, s), mid) : St) = (pre.length : Int) := rfl
        have CB := Lib.hid (HB.out B _ e pre mid s x wr (own_read hO.out) rfl hp)
        rw [hst] at stk ⊢
        clear HB hst
        cases hb : Cmpr.blocked clsOf mid x with
        | true =>
          rw [hb] at CB
          have hkp : Hid (run clsOf twoO (l.take (k + 1)) (none, []) = Cmpr.keep clsOf (some (pre, s), mid) x) := Lib.hid (HSx.out.trans (by unfold Cmpr.step; simp [hb]))
          clear HSx H2 hb
          go_wp2_with fail
          refine CB.out.mono ?_
          rintro e2 w2 ⟨rfl, hu2⟩
          obtain ⟨B4, e4, w4, hap, hO4, hu4⟩ := own_push (own_up hO.out hu2) hp (hu.trans hu2) x
          have HA := Lib.hid hap
          have HO4 := Lib.hid hO4
          clear CB hap hO4
          go_wp2_with (at_builtin; refine wpList_app rfl _ _ _ rfl rfl rfl HA.out ?_)
          clear HA
          generalize hq : (back ((some (pre, s), mid) : St)).length = q at *
          have Hq := Lib.hid hq
          clear hq
          by_cases hc0 : clsOf x = 0
          · have hcb : ((clsOf x : Int) == 0) = true := by simp [hc0]
            rw [if_pos hc0] at stk
            have Stk := Lib.hid stk
            have Bk := Lib.hid bk
            clear stk bk hc0
            generalize clsOf x = y at *
            refine (C1.out _).mono ?_
            rintro e5 w5 ⟨rfl, hu5⟩
            go_wp2_with fail
            go_roundw
            case rel =>
              refine ⟨k + 1, Cmpr.keep clsOf ((some (pre, s), mid) : St) x, by omega, by go_num, ?_, Lib.hid hkp.out.symm, Lib.hid ?_, hu4.trans hu5⟩
              · rw [Stk.out]
              · rw [Bk.out, List.length_cons, Hq.out, List.reverse_cons]
                exact own_up HO4.out hu5
            case measure => simp [intOf]; omega
          · have hcb : ((clsOf x : Int) == 0) = false := by simp; omega
            rw [if_neg hc0] at stk
            have Stk := Lib.hid stk
            have Bk := Lib.hid bk
            clear stk bk hc0
            generalize clsOf x = y at *
            refine (C1.out _).mono ?_
            rintro e5 w5 ⟨rfl, hu5⟩
            go_wp2_with fail
            go_roundw
            case rel =>
              refine ⟨k + 1, Cmpr.keep clsOf ((some (pre, s), mid) : St) x, by omega, by go_num, ?_, Lib.hid hkp.out.symm, Lib.hid ?_, hu4.trans hu5⟩
              · rw [Stk.out]
              · rw [Bk.out, List.length_cons, Hq.out, List.reverse_cons]
                exact own_up HO4.out hu5
            case measure => simp [intOf]; omega
        | false =>
          rw [hb] at CB
          have hbk : (back ((some (pre, s), mid) : St)).reverse = pre.reverse ++ s :: mid.reverse := by simp [back]
          have hlen : (back ((some (pre, s), mid) : St)).length = mid.length + (pre.length + 1) := by simp [back]
          obtain ⟨g, rfl, hg1, hg2⟩ := own_addr hO.out (by rw [hlen]; omega)
          have hpl : pre.length < (back ((some (pre, s), mid) : St)).length := by rw [hlen]; omega
          cases h2 : twoO s x with
          | none =>
            have hkp : Hid (run clsOf twoO (l.take (k + 1)) (none, []) = Cmpr.keep clsOf (some (pre, s), mid) x) := Lib.hid (HSx.out.trans (by unfold Cmpr.step; simp [hb, h2]))
            have C2 := Lib.hid (H2.out s x)
            rw [show twoOk s x = false from by unfold twoOk; rw [h2]; rfl] at C2
            have hrc := fun w' (u : Up wr w') => own_mid (P := pre.reverse) (Q := mid.reverse) (x := s) (q := pre.length) (by have := own_up hO.out u; rw [hbk] at this; exact this) (List.length_reverse)
            have HRC := Lib.hid hrc
            clear HSx H2 hb h2 hrc hbk hlen
            generalize twoC s x = z at *
            generalize hpn : pre.length = r at *
            have Hpn := Lib.hid hpn
            clear hpn
            go_wp2_with fail
            refine CB.out.mono ?_
            rintro e2 w2 ⟨rfl, hu2⟩
            have hcs := HRC.out w2 hu2
            go_wp2_with fail
            refine (C2.out _).mono ?_
            rintro e3 w3 ⟨rfl, hu3⟩
            obtain ⟨B4, e4, w4, hap, hO4, hu4⟩ := own_push (own_up hO.out (hu2.trans hu3)) hp ((hu.trans hu2).trans hu3) x
            have HA := Lib.hid hap
            have HO4 := Lib.hid hO4
            clear CB C2 HRC hap hO4
            go_wp2_with (at_builtin; refine wpList_app rfl _ _ _ rfl rfl rfl HA.out ?_)
            clear HA
            generalize hq : (back ((some (pre, s), mid) : St)).length = q at *
            have Hq := Lib.hid hq
            clear hq
            by_cases hc0 : clsOf x = 0
            · have hcb : ((clsOf x : Int) == 0) = true := by simp [hc0]
              rw [if_pos hc0] at stk
              have Stk := Lib.hid stk
              have Bk := Lib.hid bk
              clear stk bk hc0
              generalize clsOf x = y at *
              refine (C1.out _).mono ?_
              rintro e5 w5 ⟨rfl, hu5⟩
              go_wp2_with fail
              go_roundw
              case rel =>
                refine ⟨k + 1, Cmpr.keep clsOf ((some (pre, s), mid) : St) x, by omega, by go_num, ?_, Lib.hid hkp.out.symm, Lib.hid ?_, hu4.trans hu5⟩
                · rw [Stk.out]
                · rw [Bk.out, List.length_cons, Hq.out, List.reverse_cons]
                  exact own_up HO4.out hu5
              case measure => simp [intOf]; omega
            · have hcb : ((clsOf x : Int) == 0) = false := by simp; omega
              rw [if_neg hc0] at stk
              have Stk := Lib.hid stk
              have Bk := Lib.hid bk
              clear stk bk hc0
              generalize clsOf x = y at *
              refine (C1.out _).mono ?_
              rintro e5 w5 ⟨rfl, hu5⟩
              go_wp2_with fail
              go_roundw
              case rel =>
                refine ⟨k + 1, Cmpr.keep clsOf ((some (pre, s), mid) : St) x, by omega, by go_num, ?_, Lib.hid hkp.out.symm, Lib.hid ?_, hu4.trans hu5⟩
                · rw [Stk.out]
                · rw [Bk.out, List.length_cons, Hq.out, List.reverse_cons]
                  exact own_up HO4.out hu5
              case measure => simp [intOf]; omega
          | some z =>
            have hkp : Hid (run clsOf twoO (l.take (k + 1)) (none, []) = (some (pre, z), mid)) := Lib.hid (HSx.out.trans (by unfold Cmpr.step; simp [hb, h2]))
            have C2 := Lib.hid (H2.out s x)
            rw [show twoOk s x = true from by unfold twoOk; rw [h2]; rfl, show twoC s x = z from by unfold twoC; rw [h2]; rfl] at C2
            have hrc := fun w' (u : Up wr w') => own_mid (P := pre.reverse) (Q := mid.reverse) (x := s) (q := pre.length) (by have := own_up hO.out u; rw [hbk] at this; exact this) (List.length_reverse)
            have HRC := Lib.hid hrc
            have hst2 : stOf ((some (pre, z), mid) : St) = (pre.length : Int) := rfl
            have hbl : (back ((some (pre, z), mid) : St)).length = (back ((some (pre, s), mid) : St)).length := by simp [back]
            have HW := Lib.hid (fun w3 (u : Up wr w3) => own_place z (own_up hO.out u))
            have HF := Lib.hid (fun w3 (u : Up wr w3) => (own_up hO.out u).frozenAt pre.length)
            clear HSx H2 hb h2 hrc hbk hlen stk bk C1
            have Hb := Lib.hid hbl
            have Hs := Lib.hid hst2
            clear hbl hst2
            generalize hpn : pre.length = r at *
            have Hpn := Lib.hid hpn
            clear hpn
            go_wp2_with fail
            refine CB.out.mono ?_
            rintro e2 w2 ⟨rfl, hu2⟩
            have hcs := HRC.out w2 hu2
            go_wp2_with fail
            refine (C2.out _).mono ?_
            rintro e3 w3 ⟨rfl, hu3⟩
            have hcs3 := HRC.out w3 (hu2.trans hu3)
            have hfs3 := HF.out w3 (hu2.trans hu3)
            go_wp2_with fail
            go_roundw
            case rel =>
              refine ⟨k + 1, (some (pre, z), mid), by omega, by go_num, ?_, Lib.hid hkp.out.symm, Lib.hid ?_, ((hu.trans hu2).trans hu3).setCell hg1 _ _⟩
              · rw [Hs.out]
              · rw [Hb.out]
                exact HW.out w3 (hu2.trans hu3)
            case measure => simp [intOf]; omega
    · have e : l.take k = l := List.take_of_length_le (by rw [← Hn.out]; omega)
      have hb := hσ.out
      rw [e] at hb
      have hR : Hid (res = (back σ).reverse) := Lib.hid (by rw [hb]; exact Hco.out)
      clear e hb HS HL hσ Hco
      obtain ⟨B, e, rfl, hrd⟩ := own_rd hO.out
      clear hrd
      generalize hq : (back σ).length = q at *
      generalize stOf σ = z at *
      have hG : Gives res w (.returned (.slice B q e)) wr := Gives.of (n := q) (by rw [hR.out, List.length_reverse, hq]) (by rw [hR.out]; exact hO.out) hu
      go_wp2_with fail
      go_ret
      exact hG

end Go.Proofs.YtdhnjfkpehigiaaDoor
