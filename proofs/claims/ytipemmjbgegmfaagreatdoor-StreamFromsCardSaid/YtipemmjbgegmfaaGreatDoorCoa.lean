/- Coa: one text of Cow Cox Coy Col Com. -/
import Derived.Test.YtipemmjbgegmfaaGreatDoorFur
import Derived.Test.YtipemmjbgegmfaaGreatDoorHga
import Derived.Test.YtipemmjbgegmfaaGreatDoorBas
import Derived.Test.YtipemmjbgegmfaaGreatDoorUpo
import Derived.Test.YtipemmjbgegmfaaGreatDoorOrv
import Derived.Test.YtipemmjbgegmfaaGreatDoorDca
import Derived.Test.YtipemmjbgegmfaaGreatDoorDlw

/- The document's composing: what its functions answer. -/
namespace Go.Proofs.YtipemmjbgegmfaaGreatDoor
open Go.RowKit Go.Proofs.YtipemmjbgegmfaaGreatDoor.Ordr Go.Proofs.YtipemmjbgegmfaaGreatDoor.Cmpr

/-- What two are composed to, and whether they are: as a pair of answers. -/
noncomputable def twoC (a b : Nat) : Nat := (twoO a b).getD 0
noncomputable def twoOk (a b : Nat) : Bool := (twoO a b).isSome
theorem two_of_join {a b : Nat} (h : joinOk a b = true) : twoC a b = joinC a b ∧ twoOk a b = true := by
  unfold twoC twoOk
  rw [two_join h]
  exact ⟨rfl, rfl⟩
theorem two_of_pair {a b x : Nat} {ok : Bool} (h : joinOk a b = false) (hp : PairP parL a b x ok) : twoC a b = x ∧ twoOk a b = ok := by
  cases ok with
  | true =>
    unfold twoC twoOk
    rw [two_pair h hp]
    exact ⟨rfl, rfl⟩
  | false =>
    unfold twoC twoOk
    rw [two_none' h hp]
    refine ⟨?_, rfl⟩
    rcases hp with ⟨h1, _⟩ | h1
    · exact Bool.noConfusion h1
    · exact h1.2.1.symm

theorem two_ref (a b : Nat) (w : World) : Calls Tryz.prog 80 #[.int .u32 (a : Int), .int .u32 (b : Int)] w fun e w' =>
    e = .returned (.tuple #[.int .u32 (twoC a b : Int), .bool (twoOk a b)]) ∧ Up w w' := by
  have c1 := Lib.hid (join_ref a b w)
  have c2 := Lib.hid (pair_ref a b w)
  cases hj : joinOk a b with
  | true =>
    obtain ⟨e1, e2⟩ := two_of_join hj
    rw [hj] at c1
    rw [e1, e2]
    clear hj e1 e2 c2
    generalize joinC a b = x at *
    go_enter Tryz.func80, Tryz.ntmps80
    go_wp2_with fail
    refine c1.out.mono ?_
    rintro e w1 ⟨rfl, rfl⟩
    go_wp2_with fail
    go_ret2
    exact ⟨by simp, Up.refl _⟩
  | false =>
    have h2 := Lib.hid (fun x ok => two_of_pair (x := x) (ok := ok) hj)
    rw [hj] at c1
    clear hj
    generalize joinC a b = x at *
    generalize twoC a b = y at *
    generalize twoOk a b = o at *
    go_enter Tryz.func80, Tryz.ntmps80
    go_wp2_with fail
    refine c1.out.mono ?_
    rintro e w1 ⟨rfl, rfl⟩
    go_wp2_with fail
    refine c2.out.mono ?_
    rintro e w1 ⟨z, ok, rfl, hp, hu⟩
    obtain ⟨rfl, rfl⟩ := h2.out z ok hp
    go_wp2_with fail
    go_ret2
    exact ⟨by simp, hu⟩

/-- The place of the last starter. -/
def stOf (σ : St) : Int := match σ.1 with
  | none => -1
  | some (pre, _) => pre.length
theorem stOf_keep (cls : Nat → Nat) (σ : St) (c : Nat) : stOf (keep cls σ c) = if cls c = 0 then ((back σ).length : Int) else stOf σ := by
  obtain ⟨o, mid⟩ := σ
  cases o with
  | none => unfold keep; by_cases h : cls c = 0 <;> simp [h, stOf, back]
  | some p => obtain ⟨pre, s⟩ := p; unfold keep; by_cases h : cls c = 0 <;> simp [h, stOf, back]

set_option maxRecDepth 100000 in
theorem blocked_ref (B : Option Addr) (p d : Nat) (pre mid : List Nat) (s c : Nat) (w : World) (h : Rd w B d (us (back (some (pre, s), mid)).reverse)) (hp : p = (back (some (pre, s), mid)).length) (hmax : p ≤ 100000) :
    Calls Tryz.prog 79 #[.slice B p d, .int .i64 (pre.length : Int), .int .u32 (c : Int)] w fun e w' => e = .returned (.bool (Go.Proofs.YtipemmjbgegmfaaGreatDoor.Cmpr.blocked clsOf mid c)) ∧ Up w w' := by
  have HC := Lib.hid class_ref
  have hf := h.fit
  rw [us_len, List.length_reverse, ← hp] at hf
  cases mid with
  | nil =>
    have hp1 : p = pre.length + 1 := by rw [hp]; simp [back]
    subst hp1
    clear h hp
    generalize pre.length = q at *
    show Calls _ _ _ _ fun e w' => e = .returned (.bool false) ∧ Up w w'
    go_enter Tryz.func79, Tryz.ntmps79
    go_wp2_with fail
    go_ret
    exact ⟨rfl, Up.refl _⟩
  | cons m mid =>
    obtain ⟨q, rfl⟩ : ∃ q, p = q + 1 := ⟨p - 1, by rw [hp]; simp [back]⟩
    have hq : pre.length < q := by
      have : q + 1 = mid.length + 1 + (pre.length + 1) := by rw [hp]; simp [back]; omega
      omega
    obtain ⟨a, rfl, _⟩ := h.ad (by omega)
    have hcell : ∀ w', Up w w' → w'.cell? (a.add q) = some (.int .u32 (m : Int)) := fun w' u => by
      refine (h.up u).cell a rfl q _ ?_
      have e : (back (some (pre, s), m :: mid)).reverse = (back (some (pre, s), mid)).reverse ++ m :: [] := by simp [back]
      have hl : (back (some (pre, s), mid)).reverse.length = q := by
        have : q + 1 = (back (some (pre, s), mid)).length + 1 := by rw [hp]; simp [back]
        rw [List.length_reverse]; omega
      rw [e, ← hl]
      exact us_mid _ _ m
    have hc0 := hcell w (Up.refl w)
    have hb : Go.Proofs.YtipemmjbgegmfaaGreatDoor.Cmpr.blocked clsOf (m :: mid) c = (decide (clsOf m = 0) || decide (clsOf c ≤ clsOf m)) := rfl
    rw [hb]
    have C1 := Lib.hid (HC.out m)
    have C2 := Lib.hid (HC.out c)
    have hne : ((pre.length : Int) == (q : Int)) = false := by simp; omega
    clear h hp hb HC hcell hf
    generalize pre.length = r at *
    generalize clsOf m = x at *
    generalize clsOf c = y at *
    by_cases hx : x = 0
    · have hx1 : ((x : Int) == 0) = true := by simp [hx]
      go_enter Tryz.func79, Tryz.ntmps79
      go_wp2_with fail
      refine (C1.out _).mono ?_
      rintro e w1 ⟨rfl, hu⟩
      go_wp2_with fail
      go_ret
      exact ⟨by simp [hx], hu⟩
    · have hx1 : ((x : Int) == 0) = false := by simp; omega
      go_enter Tryz.func79, Tryz.ntmps79
      go_wp2_with fail
      refine (C1.out _).mono ?_
      rintro e w1 ⟨rfl, hu⟩
      go_wp2_with fail
      refine (C2.out _).mono ?_
      rintro e w2 ⟨rfl, hu2⟩
      go_wp2_with fail
      go_ret
      exact ⟨by simp [hx], hu.trans hu2⟩

end Go.Proofs.YtipemmjbgegmfaaGreatDoor

/- The document's Compose; what is asked of the program's compose. -/
namespace Go.Proofs.YtipemmjbgegmfaaGreatDoor
open Go.RowKit Go.Proofs.YtipemmjbgegmfaaGreatDoor.Ordr Go.Proofs.YtipemmjbgegmfaaGreatDoor.Cmpr

/-- The place of the last starter, written anew. -/
theorem own_place {w : World} {base g n d : Nat} {pre mid : List Nat} {s : Nat} (x : Nat) (h : w.ownsRow base 28 1 (.slice (some ⟨g, 0, none⟩) n d) n (us (back (some (pre, s), mid)).reverse)) :
    (w.setCell ⟨g, pre.length, none⟩ (.int .u32 (x : Int))).ownsRow base 28 1 (.slice (some ⟨g, 0, none⟩) n d) n (us (back (some (pre, x), mid)).reverse) := by
  have h1 := own_bump h pre.length (x : Int) (by omega)
  have e : (back (some (pre, s), mid)).reverse.set pre.length (x : Int).toNat = (back (some (pre, x), mid)).reverse := by
    unfold back
    simp only [List.reverse_append, List.reverse_cons, List.append_assoc, List.singleton_append, Int.toNat_natCast]
    rw [List.set_append_right _ _ (by simp), List.length_reverse, Nat.sub_self, List.set_cons_zero]
  rwa [e] at h1

/-- One number is appended to what a call made. -/
theorem own_push {w wz : World} {v : Value} {p : Nat} {L : List Nat} (hO : wz.ownsRow w.heap.size 28 1 v p (us L)) (hp : p ≤ 100000) (hu : Up w wz) (x : Nat) :
    ∃ B d w4, (Builtin.append_ #[60, 60] 60 #[v, .slice (some ⟨wz.heap.size, 0, none⟩) 1 1]).run Tryz.prog (wz.alloc (.cells #[.int .u32 (x : Int)] 28)) = .ok (.slice B (p + 1) d) w4 ∧
      w4.ownsRow w.heap.size 28 1 (.slice B (p + 1) d) (p + 1) (us (L ++ [x])) ∧ Up w w4 := by
  obtain ⟨v', w4, h1, h2, h3⟩ := elU.push wz 60 hO #[.int .u32 (x : Int)] 1 rfl (by omega) (by simp [Value.oneCell']) (by omega) (by omega) hu.size
  rw [show us L ++ (#[Value.int .u32 (x : Int)] : Array Value).toList = us (L ++ [x]) from by simp [us]] at h2
  obtain ⟨B, d, rfl, _⟩ := own_rd h2
  exact ⟨B, d, w4, h1, h2, (hu.alloc _).own h3 (fun k e => (hO.lt k e).1)⟩

set_option maxRecDepth 100000 in
set_option maxHeartbeats 1600000 in
theorem compose_ref (A : Option Addr) (n d : Nat) (l : List Nat) (w : World) (h : Rd w A d (us l)) (hn : n = l.length) (hmax : n ≤ 100000) :
    Calls Tryz.prog 65 #[.slice A n d] w (Gives (comp clsOf twoO l) w) := by
  have HC := Lib.hid class_ref
  have HB := Lib.hid blocked_ref
  have H2 := Lib.hid two_ref
  have H := Lib.hid h
  have Hn := Lib.hid hn
  have hf := h.fit
  rw [us_len, ← hn] at hf
  have HS := Lib.hid (fun k (hk : k < l.length) => show run clsOf twoO (l.take (k + 1)) (none, []) = Cmpr.step clsOf twoO (run clsOf twoO (l.take k) (none, [])) l[k] from by
    rw [List.take_succ_eq_append_getElem hk, run_snoc])
  have HL := Lib.hid (fun k => show (back (run clsOf twoO (l.take k) (none, []))).length ≤ k from by
    have h1 := run_len clsOf twoO (l.take k) (none, [])
    rw [show (back ((none, []) : St)).length = 0 from rfl, List.length_take] at h1
    omega)
  have hco : comp clsOf twoO l = (back (run clsOf twoO l (none, []))).reverse := rfl
  have Hco := Lib.hid hco
  clear h hn hco
  generalize comp clsOf twoO l = res at *
  go_enter Tryz.func65, Tryz.ntmps65
  go_wp2_with fail
  go_loopw [3, 4, 5] (fun v st i wr => ∃ (k : Nat) (σ : St), k ≤ n ∧ i = .int .i64 (k : Int) ∧ st = .int .i64 (stOf σ) ∧ Hid (σ = run clsOf twoO (l.take k) (none, [])) ∧ Hid (wr.ownsRow w.heap.size 28 1 v (back σ).length (us (back σ).reverse)) ∧ Up w wr) (fun _ _ i _ => n - (intOf i).toNat)
  case atStart => exact ⟨0, (none, []), by omega, rfl, rfl, Lib.hid rfl, Lib.hid (World.ownsRow_nil w _ _ 1), Up.refl w⟩
  case round =>
    obtain ⟨k, σ, hk, rfl, rfl, hσ, hO, hu⟩ := hrel
    by_cases hlt : k < n
    · have hkl : k < l.length := by rw [← Hn.out]; exact hlt
      obtain ⟨a, rfl, _⟩ := H.out.ad (by omega)
      have hcell : wr.cell? (a.add k) = some (.int .u32 (l[k] : Int)) := (H.out.up hu).cell a rfl k _ (us_get l k hkl)
      have hS := HS.out k hkl
      have hL := HL.out k
      rw [← hσ.out] at hS hL
      have hp : (back σ).length ≤ 100000 := by omega
      obtain ⟨B, e, rfl, hrd⟩ := own_rd hO.out
      clear HS HL hσ hL
      generalize l[k] = x at *
      have HSx := Lib.hid hS
      clear hS
      -- what is done where x is kept
      have stk := stOf_keep clsOf σ x
      have bk := back_keep clsOf σ x
      have C1 := Lib.hid (HC.out x)
      clear HC hrd
      obtain ⟨o, mid⟩ := σ
      rcases o with _ | ⟨pre, s⟩
      -- no starter yet
      · have hkp : Hid (run clsOf twoO (l.take (k + 1)) (none, []) = Cmpr.keep clsOf (none, mid) x) := Lib.hid (HSx.out.trans rfl)
        have hst : stOf ((none, mid) : St) = -1 := rfl
        obtain ⟨B4, e4, w4, hap, hO4, hu4⟩ := own_push hO.out hp hu x
        have HA := Lib.hid hap
        have HO4 := Lib.hid hO4
        rw [hst] at stk ⊢
        clear HSx HB H2 hap hO4 hst
        go_wp2_with (at_builtin; refine wpList_app rfl _ _ _ rfl rfl rfl HA.out ?_)
        clear HA
        generalize hq : (back ((none, mid) : St)).length = q at *
        have Hq := Lib.hid hq
        clear hq
        by_cases hc0 : clsOf x = 0
        · have hcb : ((clsOf x : Int) == 0) = true := by simp [hc0]
          rw [if_pos hc0] at stk
          have Stk := Lib.hid stk
          have Bk := Lib.hid bk
          clear stk bk hc0
          generalize clsOf x = y at *
          refine (C1.out _).mono ?_
          rintro e5 w5 ⟨rfl, hu5⟩
          go_wp2_with fail
          go_roundw
          case rel =>
            refine ⟨k + 1, Cmpr.keep clsOf ((none, mid) : St) x, by omega, by go_num, ?_, Lib.hid hkp.out.symm, Lib.hid ?_, hu4.trans hu5⟩
            · rw [Stk.out]
            · rw [Bk.out, List.length_cons, Hq.out, List.reverse_cons]
              exact own_up HO4.out hu5
          case measure => simp [intOf]; omega
        · have hcb : ((clsOf x : Int) == 0) = false := by simp; omega
          rw [if_neg hc0] at stk
          have Stk := Lib.hid stk
          have Bk := Lib.hid bk
          clear stk bk hc0
          generalize clsOf x = y at *
          refine (C1.out _).mono ?_
          rintro e5 w5 ⟨rfl, hu5⟩
          go_wp2_with fail
          go_roundw
          case rel =>
            refine ⟨k + 1, Cmpr.keep clsOf ((none, mid) : St) x, by omega, by go_num, ?_, Lib.hid hkp.out.symm, Lib.hid ?_, hu4.trans hu5⟩
            · rw [Stk.out]
            · rw [Bk.out, List.length_cons, Hq.out, List.reverse_cons]
              exact own_up HO4.out hu5
          case measure => simp [intOf]; omega
      -- a starter
      · have hst : stOf ((some (pre, s), mid) : St) = (pre.length : Int) := rfl
        have CB := Lib.hid (HB.out B _ e pre mid s x wr (own_read hO.out) rfl hp)
        rw [hst] at stk ⊢
        clear HB hst
        cases hb : Cmpr.blocked clsOf mid x with
        | true =>
          rw [hb] at CB
          have hkp : Hid (run clsOf twoO (l.take (k + 1)) (none, []) = Cmpr.keep clsOf (some (pre, s), mid) x) := Lib.hid (HSx.out.trans (by unfold Cmpr.step; simp [hb]))
          clear HSx H2 hb
          go_wp2_with fail
          refine CB.out.mono ?_
          rintro e2 w2 ⟨rfl, hu2⟩
          obtain ⟨B4, e4, w4, hap, hO4, hu4⟩ := own_push (own_up hO.out hu2) hp (hu.trans hu2) x
          have HA := Lib.hid hap
          have HO4 := Lib.hid hO4
          clear CB hap hO4
          go_wp2_with (at_builtin; refine wpList_app rfl _ _ _ rfl rfl rfl HA.out ?_)
          clear HA
          generalize hq : (back ((some (pre, s), mid) : St)).length = q at *
          have Hq := Lib.hid hq
          clear hq
          by_cases hc0 : clsOf x = 0
          · have hcb : ((clsOf x : Int) == 0) = true := by simp [hc0]
            rw [if_pos hc0] at stk
            have Stk := Lib.hid stk
            have Bk := Lib.hid bk
            clear stk bk hc0
            generalize clsOf x = y at *
            refine (C1.out _).mono ?_
            rintro e5 w5 ⟨rfl, hu5⟩
            go_wp2_with fail
            go_roundw
            case rel =>
              refine ⟨k + 1, Cmpr.keep clsOf ((some (pre, s), mid) : St) x, by omega, by go_num, ?_, Lib.hid hkp.out.symm, Lib.hid ?_, hu4.trans hu5⟩
              · rw [Stk.out]
              · rw [Bk.out, List.length_cons, Hq.out, List.reverse_cons]
                exact own_up HO4.out hu5
            case measure => simp [intOf]; omega
          · have hcb : ((clsOf x : Int) == 0) = false := by simp; omega
            rw [if_neg hc0] at stk
            have Stk := Lib.hid stk
            have Bk := Lib.hid bk
            clear stk bk hc0
            generalize clsOf x = y at *
            refine (C1.out _).mono ?_
            rintro e5 w5 ⟨rfl, hu5⟩
            go_wp2_with fail
            go_roundw
            case rel =>
              refine ⟨k + 1, Cmpr.keep clsOf ((some (pre, s), mid) : St) x, by omega, by go_num, ?_, Lib.hid hkp.out.symm, Lib.hid ?_, hu4.trans hu5⟩
              · rw [Stk.out]
              · rw [Bk.out, List.length_cons, Hq.out, List.reverse_cons]
                exact own_up HO4.out hu5
            case measure => simp [intOf]; omega
        | false =>
          rw [hb] at CB
          have hbk : (back ((some (pre, s), mid) : St)).reverse = pre.reverse ++ s :: mid.reverse := by simp [back]
          have hlen : (back ((some (pre, s), mid) : St)).length = mid.length + (pre.length + 1) := by simp [back]
          obtain ⟨g, rfl, hg1, hg2⟩ := own_addr hO.out (by rw [hlen]; omega)
          have hpl : pre.length < (back ((some (pre, s), mid) : St)).length := by rw [hlen]; omega
          cases h2 : twoO s x with
          | none =>
            have hkp : Hid (run clsOf twoO (l.take (k + 1)) (none, []) = Cmpr.keep clsOf (some (pre, s), mid) x) := Lib.hid (HSx.out.trans (by unfold Cmpr.step; simp [hb, h2]))
            have C2 := Lib.hid (H2.out s x)
            rw [show twoOk s x = false from by unfold twoOk; rw [h2]; rfl] at C2
            have hrc := fun w' (u : Up wr w') => own_mid (P := pre.reverse) (Q := mid.reverse) (x := s) (q := pre.length) (by have := own_up hO.out u; rw [hbk] at this; exact this) (List.length_reverse)
            have HRC := Lib.hid hrc
            clear HSx H2 hb h2 hrc hbk hlen
            generalize twoC s x = z at *
            generalize hpn : pre.length = r at *
            have Hpn := Lib.hid hpn
            clear hpn
            go_wp2_with fail
            refine CB.out.mono ?_
            rintro e2 w2 ⟨rfl, hu2⟩
            have hcs := HRC.out w2 hu2
            go_wp2_with fail
            refine (C2.out _).mono ?_
            rintro e3 w3 ⟨rfl, hu3⟩
            obtain ⟨B4, e4, w4, hap, hO4, hu4⟩ := own_push (own_up hO.out (hu2.trans hu3)) hp ((hu.trans hu2).trans hu3) x
            have HA := Lib.hid hap
            have HO4 := Lib.hid hO4
            clear CB C2 HRC hap hO4
            go_wp2_with (at_builtin; refine wpList_app rfl _ _ _ rfl rfl rfl HA.out ?_)
            clear HA
            generalize hq : (back ((some (pre, s), mid) : St)).length = q at *
            have Hq := Lib.hid hq
            clear hq
            by_cases hc0 : clsOf x = 0
            · have hcb : ((clsOf x : Int) == 0) = true := by simp [hc0]
              rw [if_pos hc0] at stk
              have Stk := Lib.hid stk
              have Bk := Lib.hid bk
              clear stk bk hc0
              generalize clsOf x = y at *
              refine (C1.out _).mono ?_
              rintro e5 w5 ⟨rfl, hu5⟩
              go_wp2_with fail
              go_roundw
              case rel =>
                refine ⟨k + 1, Cmpr.keep clsOf ((some (pre, s), mid) : St) x, by omega, by go_num, ?_, Lib.hid hkp.out.symm, Lib.hid ?_, hu4.trans hu5⟩
                · rw [Stk.out]
                · rw [Bk.out, List.length_cons, Hq.out, List.reverse_cons]
                  exact own_up HO4.out hu5
              case measure => simp [intOf]; omega
            · have hcb : ((clsOf x : Int) == 0) = false := by simp; omega
              rw [if_neg hc0] at stk
              have Stk := Lib.hid stk
              have Bk := Lib.hid bk
              clear stk bk hc0
              generalize clsOf x = y at *
              refine (C1.out _).mono ?_
              rintro e5 w5 ⟨rfl, hu5⟩
              go_wp2_with fail
              go_roundw
              case rel =>
                refine ⟨k + 1, Cmpr.keep clsOf ((some (pre, s), mid) : St) x, by omega, by go_num, ?_, Lib.hid hkp.out.symm, Lib.hid ?_, hu4.trans hu5⟩
                · rw [Stk.out]
                · rw [Bk.out, List.length_cons, Hq.out, List.reverse_cons]
                  exact own_up HO4.out hu5
              case measure => simp [intOf]; omega
          | some z =>
            have hkp : Hid (run clsOf twoO (l.take (k + 1)) (none, []) = (some (pre, z), mid)) := Lib.hid (HSx.out.trans (by unfold Cmpr.step; simp [hb, h2]))
            have C2 := Lib.hid (H2.out s x)
            rw [show twoOk s x = true from by unfold twoOk; rw [h2]; rfl, show twoC s x = z from by unfold twoC; rw [h2]; rfl] at C2
            have hrc := fun w' (u : Up wr w') => own_mid (P := pre.reverse) (Q := mid.reverse) (x := s) (q := pre.length) (by have := own_up hO.out u; rw [hbk] at this; exact this) (List.length_reverse)
            have HRC := Lib.hid hrc
            have hst2 : stOf ((some (pre, z), mid) : St) = (pre.length : Int) := rfl
            have hbl : (back ((some (pre, z), mid) : St)).length = (back ((some (pre, s), mid) : St)).length := by simp [back]
            have HW := Lib.hid (fun w3 (u : Up wr w3) => own_place z (own_up hO.out u))
            have HF := Lib.hid (fun w3 (u : Up wr w3) => (own_up hO.out u).frozenAt pre.length)
            clear HSx H2 hb h2 hrc hbk hlen stk bk C1
            have Hb := Lib.hid hbl
            have Hs := Lib.hid hst2
            clear hbl hst2
            generalize hpn : pre.length = r at *
            have Hpn := Lib.hid hpn
            clear hpn
            go_wp2_with fail
            refine CB.out.mono ?_
            rintro e2 w2 ⟨rfl, hu2⟩
            have hcs := HRC.out w2 hu2
            go_wp2_with fail
            refine (C2.out _).mono ?_
            rintro e3 w3 ⟨rfl, hu3⟩
            have hcs3 := HRC.out w3 (hu2.trans hu3)
            have hfs3 := HF.out w3 (hu2.trans hu3)
            go_wp2_with fail
            go_roundw
            case rel =>
              refine ⟨k + 1, (some (pre, z), mid), by omega, by go_num, ?_, Lib.hid hkp.out.symm, Lib.hid ?_, ((hu.trans hu2).trans hu3).setCell hg1 _ _⟩
              · rw [Hs.out]
              · rw [Hb.out]
                exact HW.out w3 (hu2.trans hu3)
            case measure => simp [intOf]; omega
    · have e : l.take k = l := List.take_of_length_le (by rw [← Hn.out]; omega)
      have hb := hσ.out
      rw [e] at hb
      have hR : Hid (res = (back σ).reverse) := Lib.hid (by rw [hb]; exact Hco.out)
      clear e hb HS HL hσ Hco
      obtain ⟨B, e, rfl, hrd⟩ := own_rd hO.out
      clear hrd
      generalize hq : (back σ).length = q at *
      generalize stOf σ = z at *
      have hG : Gives res w (.returned (.slice B q e)) wr := Gives.of (n := q) (by rw [hR.out, List.length_reverse, hq]) (by rw [hR.out]; exact hO.out) hu
      go_wp2_with fail
      go_ret
      exact hG

end Go.Proofs.YtipemmjbgegmfaaGreatDoor

/- What is asked of the program's compose; the closed cases of stage 7. -/
namespace Go.Proofs.YtipemmjbgegmfaaGreatDoor
open Go.RowKit Go.Proofs.YtipemmjbgegmfaaGreatDoor.Ordr Go.Proofs.YtipemmjbgegmfaaGreatDoor.Cmpr

/-- What the program's functions answer. -/
structure ComposeOk : Prop where
  two : ∀ (a b : Nat) (w : World), HRows w → a < 4294967296 → b < 4294967296 → Calls Tryz.prog 72 #[.int .u32 (a : Int), .int .u32 (b : Int)] w fun e w' => e = .returned (.tuple #[.int .u32 (twoC a b : Int), .bool (twoOk a b)]) ∧ Up w w'
  compose : ∀ (A : Option Addr) (n d : Nat) (l : List Nat) (w : World), HRows w → Rd w A d (us l) → n = l.length → n ≤ 100000 → (∀ c ∈ l, c < 4294967296) → Calls Tryz.prog 57 #[.slice A n d] w (Gives (comp clsOf twoO l) w)

theorem no789 : allRows (fun l => bif Nat.beq (f5 5 l) 789 then false else true) 15 941 parS.data.toList = true := by kernel_rfl
theorem sec_of_rows {c : Nat} (h1 : hanV c = false) (h2 : ∀ i, i < 941 → f5 5 (parS.data.toList.drop (i * 15)) ≠ c) : secOf c = false := by
  unfold secOf
  rw [h1, Bool.false_or, Bool.eq_false_iff]
  intro h
  obtain ⟨i, hi, h⟩ := (isSec_iff c).1 h
  refine h2 i hi ?_
  rw [f5_fld]
  exact h
theorem sec_789 : secOf 789 = false := sec_of_rows (by decide) (fun i hi he => by
  have hr := allRows_at _ 15 941 _ i no789 hi
  simp only [he] at hr
  exact Bool.noConfusion hr)

theorem k_cls1b : fld clsS.data.toList 12 1 5 5 = 789 := by kernel_rfl
theorem k_cls1c : fld clsS.data.toList 12 1 10 2 = 232 := by kernel_rfl
theorem k_cls2 : key clsS.data.toList 12 2 = 790 := by kernel_rfl
theorem v_789 : clsOf 789 = 232 := (cls_of (i := 1) (by decide) (leq k_cls1 (by decide)) (geq k_cls2 (by decide)) (geq k_cls1b (by decide))).trans k_cls1c
theorem comp_case (cls : Nat → Nat) (two : Nat → Nat → Option Nat) (h1 : cls 101 = 0) (h2 : cls 769 = 230) (h3 : cls 789 = 232) (h4 : cls 4352 = 0) (t1 : two 101 769 = some 233) (t2 : two 101 789 = none) (t3 : two 4352 4449 = some 44032) (t4 : two 44032 4520 = some 44033) :
    comp cls two [101, 769] = [233] ∧ comp cls two [4352, 4449, 4520] = [44033] ∧ comp cls two [101, 789, 769] = [101, 789, 769] := by
  refine ⟨?_, ?_, ?_⟩
  · simp [comp, run, Cmpr.step, Cmpr.keep, Cmpr.blocked, back, h1, t1]
  · simp [comp, run, Cmpr.step, Cmpr.keep, Cmpr.blocked, back, h4, t3, t4]
  · simp [comp, run, Cmpr.step, Cmpr.keep, Cmpr.blocked, back, h1, h2, h3, t2]
theorem small_cls {c : Nat} (h : c < 768) : clsOf c = 0 := cls_none (Nat.lt_of_lt_of_le h (geq k_cls0 (Nat.le_refl _)))
theorem comp_vals : comp clsOf twoO [101, 769] = [233] ∧ comp clsOf twoO [4352, 4449, 4520] = [44033] ∧ comp clsOf twoO [101, 789, 769] = [101, 789, 769] := by
  have hp := v_pair
  refine comp_case clsOf twoO (small_cls (by decide)) v_cls v_789 (jam_cls (.inl (by decide))) (two_pair (by decide) hp) (two_not sec_789 101) ?_ ?_
  · rw [two_join (show joinOk 4352 4449 = true by decide)]; decide
  · rw [two_join (show joinOk 44032 4520 = true by decide)]; decide

end Go.Proofs.YtipemmjbgegmfaaGreatDoor

/- The statements of stage 7: the walks. -/
namespace Go.Proofs.YtipemmjbgegmfaaGreatDoor
open Go.RowKit Go.Proofs.YtipemmjbgegmfaaGreatDoor.Ordr Go.Proofs.YtipemmjbgegmfaaGreatDoor.Cmpr

theorem comp_lt (l : List Nat) (h : ∀ c ∈ l, c < 4294967296) : ∀ y ∈ comp clsOf twoO l, y < 4294967296 := fun y hy => by
  refine back_from clsOf twoO (fun y => y < 4294967296) (fun s c x hx => two_lt hx) l (none, []) h (fun y hy => absurd hy (by simp [back])) y ?_
  unfold comp at hy
  exact List.mem_reverse.1 hy
theorem two_pairs_lt {a b : Nat} : twoC a b < 4294967296 := by
  unfold twoC
  cases h : twoO a b with
  | none => exact (by decide : (0 : Nat) < 4294967296)
  | some x => exact two_lt h

end Go.Proofs.YtipemmjbgegmfaaGreatDoor

/- The statements of stage 7: composed and decomposed again. -/
namespace Go.Proofs.YtipemmjbgegmfaaGreatDoor
open Go.RowKit Go.Proofs.YtipemmjbgegmfaaGreatDoor.Ordr Go.Proofs.YtipemmjbgegmfaaGreatDoor.Cmpr

/-- What the forms of a list are: facts on their lengths and values. -/
structure Forms (l F D C F2 : List Nat) : Prop where
  f : F = l.flatMap full
  d : D = ord clsOf F
  c : C = comp clsOf twoO D
  f2 : F2 = C.flatMap full
  back : ord clsOf F2 = D
  again : comp clsOf twoO C = C
  lF : F.length ≤ 4 * l.length
  lD : D.length = F.length
  lC : C.length ≤ D.length
  lF2 : F2.length ≤ 4 * C.length
  tF : ∀ y ∈ F, y < 4294967296
  tD : ∀ y ∈ D, y < 4294967296
  tC : ∀ y ∈ C, y < 4294967296
  tF2 : ∀ y ∈ F2, y < 4294967296
theorem forms_of (l : List Nat) (hl : ∀ c ∈ l, c < 4294967296) : ∃ F D C F2, Forms l F D C F2 := by
  have hFt := flat_lt l hl
  have hDt : ∀ y ∈ ord clsOf (l.flatMap full), y < 4294967296 := fun y hy => hFt y ((ord_perm clsOf _).mem_iff.1 hy)
  have hCt := comp_lt _ hDt
  have hw : ∀ y ∈ ord clsOf (l.flatMap full), full y = [y] := Nrmr.nfd_whole clsOf twoO good l
  refine ⟨_, _, _, _, rfl, rfl, rfl, rfl, ?_, ?_, flat_full_len l, ord_len clsOf _, comp_len clsOf twoO _, flat_full_len _, hFt, hDt, hCt, flat_lt _ hCt⟩
  · exact Cmpr.comp_back clsOf twoO good hw (ord_is clsOf _)
  · exact Cmpr.comp_again clsOf twoO good hw (ord_is clsOf _)

end Go.Proofs.YtipemmjbgegmfaaGreatDoor
