/- The program's compose: what its functions answer. -/
import Derived.Test.YtipemmjbgegmfaaGreatDoorCoa
import Derived.Test.YtipemmjbgegmfaaGreatDoorOpr
import Derived.Deep.LoopGhost
namespace Go.Proofs.YtipemmjbgegmfaaGreatDoor
open Go.RowKit Go.Proofs.YtipemmjbgegmfaaGreatDoor.Ordr Go.Proofs.YtipemmjbgegmfaaGreatDoor.Cmpr

set_option maxRecDepth 100000 in
theorem two_prog (a b : Nat) (w : World) (h : HRows w) : Calls Tryz.prog 72 #[.int .u32 (a : Int), .int .u32 (b : Int)] w fun e w' =>
    e = .returned (.tuple #[.int .u32 (twoC a b : Int), .bool (twoOk a b)]) ∧ Up w w' := by
  have c1 := Lib.hid (join_prog a b w h)
  have c2 := Lib.hid (pair_prog a b)
  cases hj : joinOk a b with
  | true =>
    obtain ⟨e1, e2⟩ := two_of_join hj
    rw [hj] at c1
    rw [e1, e2]
    clear hj e1 e2 c2
    generalize joinC a b = x at *
    go_enter Tryz.func72, Tryz.ntmps72
    go_wp2_with fail
    refine c1.out.mono ?_
    rintro e w1 ⟨rfl, n1, rfl⟩
    go_wp2_with fail
    go_ret2
    exact ⟨by simp, (Up.refl w).drewN n1⟩
  | false =>
    have h2 := Lib.hid (fun x ok => two_of_pair (x := x) (ok := ok) hj)
    rw [hj] at c1
    clear hj
    generalize joinC a b = x at *
    generalize twoC a b = y at *
    generalize twoOk a b = o at *
    go_enter Tryz.func72, Tryz.ntmps72
    go_wp2_with fail
    refine c1.out.mono ?_
    rintro e w1 ⟨rfl, n1, rfl⟩
    go_wp2_with fail
    refine (c2.out _).mono ?_
    rintro e w1 ⟨z, ok, rfl, hp, hu⟩
    obtain ⟨rfl, rfl⟩ := h2.out z ok hp
    go_wp2_with fail
    go_ret2
    exact ⟨by simp, Up.of_drewN hu⟩

/-- The class of the last one that is kept behind the last starter; 0 if there is none. -/
noncomputable def behOf (mid : List Nat) : Nat := match mid with
  | [] => 0
  | m :: _ => clsOf m
theorem blocked_beh (mid : List Nat) (c : Nat) (hm : ∀ y ∈ mid, clsOf y ≠ 0) : Cmpr.blocked clsOf mid c = (!decide (behOf mid = 0) && decide (clsOf c ≤ behOf mid)) := by
  cases mid with
  | nil => rfl
  | cons m r =>
    have h0 := hm m (by simp)
    unfold Cmpr.blocked behOf
    simp [h0]

set_option maxRecDepth 100000 in
theorem blocked_prog (p q : Nat) (w : World) : Calls Tryz.prog 71 #[.int .i64 (p : Int), .int .i64 (q : Int)] w fun e w' => e = .returned (.bool (!decide (p = 0) && decide (q ≤ p))) ∧ w = w' := by
  by_cases h0 : p = 0
  · have e0 : ((p : Int) != 0) = false := by simp [h0]
    have E := Lib.hid (show (!decide (p = 0) && decide (q ≤ p)) = false by simp [h0])
    clear h0
    go_enter Tryz.func71, Tryz.ntmps71
    go_wp2_with fail
    go_ret
    exact ⟨by rw [E.out]; rfl, rfl⟩
  · have e0 : ((p : Int) != 0) = true := by simp; omega
    by_cases h1 : q ≤ p
    · have e1 : decide ((q : Int) ≤ (p : Int)) = true := decide_eq_true (by omega)
      have E := Lib.hid (show (!decide (p = 0) && decide (q ≤ p)) = decide (q ≤ p) by simp [h0])
      clear h0 h1
      go_enter Tryz.func71, Tryz.ntmps71
      go_wp2_with fail
      go_ret
      exact ⟨by rw [E.out]; rfl, rfl⟩
    · have e1 : decide ((q : Int) ≤ (p : Int)) = false := decide_eq_false (by omega)
      have E := Lib.hid (show (!decide (p = 0) && decide (q ≤ p)) = decide (q ≤ p) by simp [h0])
      clear h0 h1
      go_enter Tryz.func71, Tryz.ntmps71
      go_wp2_with fail
      go_ret
      exact ⟨by rw [E.out]; rfl, rfl⟩

/-- 'make([]uint32, 0, n)'. -/
theorem made_room (w : World) (q : Nat) (hq : q ≤ 1000000000) : ∃ w', (Instr.makeSlice 60 (.int .i64 0) (.int .i64 (q : Int))).run Tryz.prog w = .ok (.slice (some ⟨w.heap.size, 0, none⟩) 0 q) w' ∧
    w'.ownsRow w.heap.size 28 1 (.slice (some ⟨w.heap.size, 0, none⟩) 0 q) 0 [] ∧ Up w w' := by
  obtain ⟨i, h1, h2, h3, h4⟩ := info_parts infoU
  obtain ⟨w', hrun, r1, r2⟩ := run_make_own (P := Tryz.prog) (w := w) w.heap.size 60 28 i (.int .u32 0) 1 uUx h1 h2 h3 .i64 .i64 q (by rw [h4]; omega) (by unfold maxLen; omega) (Nat.le_refl _)
  exact ⟨w', hrun, r1, Up.own (Up.refl w) r2 (fun k hk => by cases hk)⟩
theorem szC (w : World) : (sizeOf (Tryz.prog.elem 60)).run Tryz.prog w = .ok 1 w := by kernel_rfl
/-- 'l[k+1:]' of numbers, and how many are left. -/
theorem Rd.tailC {w : World} {A : Option Addr} {c : Nat} {l : List Nat} (h : Rd w A c (us l)) (n k : Nat) (hn : l.length = n) (hk : k < n) :
    ∃ A' m c', Hid (m + (k + 1) = n) ∧ (∀ w', (Instr.slice 60 (.slice A n c) (some (.int .i64 ((k : Int) + 1))) none none).run Tryz.prog w' = .ok (.slice A' m c') w') ∧ Hid (Rd w A' c' (us (l.drop (k + 1)))) := by
  have hf := h.fit
  rw [us_len] at hf
  refine ⟨if c = k + 1 then A else A.map (·.add ((k + 1) * 1)), n - (k + 1), c - (k + 1), Lib.hid (by omega), fun w' => ?_, Lib.hid ?_⟩
  · rw [show ((k : Int) + 1) = ((k + 1 : Nat) : Int) by omega, run_slice_l w' 60 A n c uUe .i64 ((k + 1 : Nat) : Int) (by omega) (by omega), szC]
    simp [sliced]
  · have := h.sub (lo := k + 1) (hi := n) (m := c) hk (by rw [us_len]; omega) (by omega) (by omega)
    rw [us_drop, List.take_of_length_le (by rw [us_len, List.length_drop]; omega)] at this
    simpa using this

theorem keep_marks {cls : Nat → Nat} {σ : St} {c : Nat} (h : ∀ y ∈ σ.2, cls y ≠ 0) : ∀ y ∈ (Cmpr.keep cls σ c).2, cls y ≠ 0 := by
  obtain ⟨o, mid⟩ := σ
  cases o with
  | none =>
    unfold Cmpr.keep
    by_cases hc : cls c = 0
    · simp [hc]
    · simp only [if_neg hc]
      intro y hy
      rcases List.mem_cons.1 hy with rfl | hy
      · exact hc
      · exact h y hy
  | some p =>
    unfold Cmpr.keep
    by_cases hc : cls c = 0
    · simp [hc]
    · simp only [if_neg hc]
      intro y hy
      rcases List.mem_cons.1 hy with rfl | hy
      · exact hc
      · exact h y hy
theorem keep_starts {cls : Nat → Nat} {σ : St} {c : Nat} (h : cls c = 0) : (Cmpr.keep cls σ c).2 = [] := by
  obtain ⟨o, mid⟩ := σ
  cases o <;> unfold Cmpr.keep <;> simp [h]
theorem keep_behind {σ : St} {c : Nat} (h : clsOf c ≠ 0) : behOf (Cmpr.keep clsOf σ c).2 = clsOf c := by
  obtain ⟨o, mid⟩ := σ
  cases o <;> unfold Cmpr.keep <;> simp [h, behOf]
theorem run_at {L : List Nat} {j : Nat} (h : j < L.length) (τ : St) : run clsOf twoO (L.drop j) τ = run clsOf twoO (L.drop (j + 1)) (Cmpr.step clsOf twoO τ L[j]) := by
  rw [List.drop_eq_getElem_cons h]
  rfl

/-- The state at the head of an outer round: g numbers are left, and what is kept ends with the last starter. -/
def CpOut (w : World) (n : Nat) (res : St) (g : Nat) (A0 : Option Addr) (d0 : Nat) (L : List Nat) (σ : St) (v : Value) (wr : World) : Prop :=
  L.length = g ∧ Rd w A0 d0 (us L) ∧ run clsOf twoO L σ = res ∧ (back σ).length + g ≤ n ∧ σ.2 = [] ∧ wr.ownsRow w.heap.size 28 1 v (back σ).length (us (back σ).reverse) ∧ Up w wr
/-- The state at the head of an inner round: j of them are done. -/
def CpIn (w : World) (n : Nat) (res : St) (g : Nat) (L : List Nat) (z : Int) (j : Nat) (τ : St) (v : Value) (wr : World) : Prop :=
  run clsOf twoO (L.drop j) τ = res ∧ (back τ).length + (g - j) ≤ n ∧ (∀ y ∈ τ.2, clsOf y ≠ 0) ∧ stOf τ = z ∧ wr.ownsRow w.heap.size 28 1 v (back τ).length (us (back τ).reverse) ∧ Up w wr
theorem CpIn.kept {w wr w4 : World} {n g j x p : Nat} {res τ : St} {L : List Nat} {z : Int} {v v' : Value} (h : CpIn w n res g L z j τ v wr) (hj : j < g) (hr : run clsOf twoO (L.drop (j + 1)) (Cmpr.keep clsOf τ x) = res) (hc : clsOf x ≠ 0) (hp : (back τ).length = p)
    (hO : w4.ownsRow w.heap.size 28 1 v' (p + 1) (us ((back τ).reverse ++ [x]))) (hu : Up w w4) : CpIn w n res g L z (j + 1) (Cmpr.keep clsOf τ x) v' w4 := by
  obtain ⟨_, h2, h3, h4, _, _⟩ := h
  refine ⟨hr, ?_, keep_marks h3, ?_, ?_, hu⟩
  · rw [back_keep, List.length_cons]; omega
  · rw [stOf_keep, if_neg hc]; exact h4
  · rw [back_keep, List.length_cons, List.reverse_cons, hp]; exact hO
theorem CpIn.begun {w wr w4 : World} {n g j x p m d' : Nat} {res τ : St} {L : List Nat} {z : Int} {v v' : Value} {A' : Option Addr} (h : CpIn w n res g L z j τ v wr) (hL : L.length = g) (hm : m + (j + 1) = g) (hr : run clsOf twoO (L.drop (j + 1)) (Cmpr.keep clsOf τ x) = res) (hc : clsOf x = 0) (hp : (back τ).length = p)
    (hO : w4.ownsRow w.heap.size 28 1 v' (p + 1) (us ((back τ).reverse ++ [x]))) (hu : Up w w4) (hR : Rd w A' d' (us (L.drop (j + 1)))) : CpOut w n res m A' d' (L.drop (j + 1)) (Cmpr.keep clsOf τ x) v' w4 := by
  obtain ⟨_, h2, h3, h4, _, _⟩ := h
  refine ⟨by rw [List.length_drop]; omega, hR, hr, ?_, keep_starts hc, ?_, hu⟩
  · rw [back_keep, List.length_cons]; omega
  · rw [back_keep, List.length_cons, List.reverse_cons, hp]; exact hO

set_option maxRecDepth 100000 in
set_option maxHeartbeats 3200000 in
theorem compose_prog (A : Option Addr) (n d : Nat) (l : List Nat) (w : World) (hr : HRows w) (h : Rd w A d (us l)) (hn : n = l.length) (hmax : n ≤ 100000) :
    Calls Tryz.prog 57 #[.slice A n d] w (Gives (comp clsOf twoO l) w) := by
  have HC := Lib.hid class_prog
  have HB := Lib.hid blocked_prog
  have H2 := Lib.hid (fun a b w' (u : Up w w') => two_prog a b w' (hr.up u))
  have hf := h.fit
  rw [us_len, ← hn] at hf
  have Hco := Lib.hid (show comp clsOf twoO l = (back (run clsOf twoO l (none, []))).reverse from rfl)
  obtain ⟨w1, hmk, hown, hu1⟩ := made_room w n (by omega)
  have H0 := Lib.hid (show CpOut w n (run clsOf twoO l (none, [])) n A d l (none, []) (.slice (some ⟨w.heap.size, 0, none⟩) 0 n) w1 from ⟨hn.symm, h, rfl, by show 0 + n ≤ n; omega, rfl, hown, hu1⟩)
  clear h hn hr hown hu1
  generalize comp clsOf twoO l = out at *
  generalize run clsOf twoO l (none, []) = res at *
  go_enter Tryz.func57, Tryz.ntmps57
  go_wp2_with fail
  try go_step3
  go_wp2_with fail
  try go_step3
  go_wp2_with fail
  clear hmk
  go_loopg [0, 3, 4] n (fun g s0 s3 s4 wr => ∃ (A0 : Option Addr) (d0 : Nat) (L : List Nat) (σ : St), s0 = .slice A0 g d0 ∧ s4 = .int .i64 (stOf σ) ∧ Hid (CpOut w n res g A0 d0 L σ s3 wr))
  case atStart => exact ⟨A, d, l, (none, []), rfl, rfl, H0⟩
  case round =>
    clear H0
    rename Nat => g
    rename World => wo
    obtain ⟨A0, d0, L, σ, rfl, rfl, HO⟩ := hrel
    obtain ⟨hLg, hRd, hrun, hlen, hmid, hO, hu⟩ := HO.out
    have hI0 : CpIn w n res g L (stOf σ) 0 σ _ wo := ⟨by rw [List.drop_zero]; exact hrun, by omega, (by rw [hmid]; intro y hy; cases hy), rfl, hO, hu⟩
    have HI0 := Lib.hid hI0
    have HM := Lib.hid hmid
    have HR := Lib.hid hRd
    have HL := Lib.hid hLg
    have hb0 : behOf σ.2 = 0 := by rw [hmid]; rfl
    have HB0 := Lib.hid hb0
    have hg5 : g ≤ 100000 := by omega
    have hfg := hRd.fit
    rw [us_len, hLg] at hfg
    clear HO hLg hRd hrun hlen hmid hO hu hI0 hb0
    generalize hz : stOf σ = z at *
    clear hz
    go_wp2_with fail
    go_loopg [0, 3, 4, 5, 16] g (fun g2 s0 s3 s4 s5 s16 wy => ∃ (j : Nat) (τ : St), s0 = .slice A0 g d0 ∧ s4 = .int .i64 z ∧ s5 = .int .i64 (behOf τ.2 : Int) ∧ s16 = .int .i64 (j : Int) ∧ j + g2 = g ∧ Hid (CpIn w n res g L z j τ s3 wy))
    case atStart => exact ⟨0, σ, rfl, rfl, by rw [HB0.out]; rfl, rfl, by omega, HI0⟩
    case round =>
      clear HI0 HM HB0
      obtain ⟨j, τ, rfl, rfl, rfl, rfl, hjg, HI⟩ := hrel
      obtain ⟨_, hlen, hmk, hst, hO, hu⟩ := HI.out
      obtain ⟨B, e, rfl, hrd⟩ := own_rd hO
      clear hrd
      by_cases hlt : j < g
      · have hjl : j < L.length := by rw [HL.out]; exact hlt
        obtain ⟨a, rfl, _⟩ := HR.out.ad (by omega)
        have hcell : wr.cell? (a.add j) = some (.int .u32 (L[j] : Int)) := (HR.out.up hu).cell a rfl j _ (us_get L j hjl)
        have hS := run_at hjl τ
        rw [HI.out.1] at hS
        have HS := Lib.hid hS
        have hp : (back τ).length ≤ 100000 := by omega
        obtain ⟨A', m, d', HMg, hsl, HR'⟩ := HR.out.tailC g j HL.out hlt
        have HMK := Lib.hid hmk
        have HOw := Lib.hid hO
        have Hu := Lib.hid hu
        clear hS hmk hO hu hlen
        generalize L[j] = x at *
        have C1 := Lib.hid (HC.out x)
        have CB := Lib.hid (fun w => HB.out (behOf τ.2) (clsOf x) w)
        clear HC HB
        obtain ⟨o, mid⟩ := τ
        rcases o with _ | ⟨pre, s⟩
        -- no starter yet
        · have hz1 : z = -1 := hst.symm
          have HK := Lib.hid (show run clsOf twoO (L.drop (j + 1)) (Cmpr.keep clsOf ((none, mid) : St) x) = res from HS.out.symm)
          clear HS H2 CB hst
          subst hz1
          go_wp2_with fail
          refine (C1.out _).mono ?_
          rintro e2 w2 ⟨rfl, hu2⟩
          obtain ⟨B4, e4, w4, hap, hO4, hu4⟩ := own_push (own_up HOw.out hu2) hp (Hu.out.trans hu2) x
          have HA := Lib.hid hap
          have HO4 := Lib.hid hO4
          have Hu4 := Lib.hid hu4
          clear hap hO4 hu4
          generalize hq : (back ((none, mid) : St)).length = q at *
          have Hq := Lib.hid hq
          clear hq
          by_cases hc0 : clsOf x = 0
          · have hcb : ((clsOf x : Int) == 0) = true := by simp [hc0]
            have HC0 := Lib.hid hc0
            have HST := Lib.hid (show stOf (Cmpr.keep clsOf ((none, mid) : St) x) = (q : Int) by rw [stOf_keep, if_pos hc0, Hq.out])
            clear hc0
            generalize hy : clsOf x = y at *
            have HY := Lib.hid hy
            clear hy
            go_wp2_with (at_builtin; refine wpList_app rfl _ _ _ rfl rfl rfl HA.out ?_)
            clear HA
            go_quiet (fail)
            go_wp2_with fail
            go_roundg m
            case measure => have := HMg.out; omega
            case rel => exact ⟨A', d', L.drop (j + 1), Cmpr.keep clsOf ((none, mid) : St) x, rfl, by rw [HST.out], Lib.hid (HI.out.begun HL.out HMg.out HK.out (HY.out.trans HC0.out) Hq.out (own_up HO4.out ((Up.refl w4).drewN _)) (Hu4.out.drewN _) HR'.out)⟩
          · have hcb : ((clsOf x : Int) == 0) = false := by simp; omega
            have HBH := Lib.hid (keep_behind (σ := ((none, mid) : St)) hc0)
            have HKI := Lib.hid (HI.out.kept hlt HK.out hc0 Hq.out HO4.out Hu4.out)
            clear hc0 hsl
            generalize hy : clsOf x = y at *
            clear hy
            go_wp2_with (at_builtin; refine wpList_app rfl _ _ _ rfl rfl rfl HA.out ?_)
            clear HA
            go_roundg (g - (j + 1))
            case measure => omega
            case rel => exact ⟨j + 1, Cmpr.keep clsOf ((none, mid) : St) x, rfl, rfl, by rw [HBH.out], by go_num, by omega, HKI⟩
        -- a starter
        · have Hst := Lib.hid (show (z : Int) = (pre.length : Int) from hst.symm)
          have hbl := blocked_beh mid x HMK.out
          have hz1 : z = ((pre.length : Nat) : Int) := hst.symm
          subst hz1
          clear hst Hst
          have hne : ((pre.length : Int) != -1) = true := by simp
          have CB2 : Hid (∀ w, Calls Tryz.prog 71 #[.int .i64 (behOf mid : Int), .int .i64 (clsOf x : Int)] w fun e w' => e = .returned (.bool (Cmpr.blocked clsOf mid x)) ∧ w = w') := Lib.hid (fun w => by rw [hbl]; exact CB.out w)
          clear CB hbl
          cases hb : Cmpr.blocked clsOf mid x with
          | true =>
            have HK := Lib.hid (show run clsOf twoO (L.drop (j + 1)) (Cmpr.keep clsOf ((some (pre, s), mid) : St) x) = res from by
              have h1 := HS.out
              unfold Cmpr.step at h1
              simp only [hb, if_true] at h1
              exact h1.symm)
            rw [hb] at CB2
            clear HS H2 hb
            generalize hpn : pre.length = r at *
            have Hpn := Lib.hid hpn
            clear hpn
            go_wp2_with fail
            refine (C1.out _).mono ?_
            rintro e2 w2 ⟨rfl, hu2⟩
            go_wp2_with fail
            refine (CB2.out _).mono ?_
            rintro e3 w3 ⟨rfl, rfl⟩
            obtain ⟨B4, e4, w4, hap, hO4, hu4⟩ := own_push (own_up HOw.out hu2) hp (Hu.out.trans hu2) x
            have HA := Lib.hid hap
            have HO4 := Lib.hid hO4
            have Hu4 := Lib.hid hu4
            clear hap hO4 hu4
            generalize hq : (back ((some (pre, s), mid) : St)).length = q at *
            have Hq := Lib.hid hq
            clear hq
            by_cases hc0 : clsOf x = 0
            · have hcb : ((clsOf x : Int) == 0) = true := by simp [hc0]
              have HC0 := Lib.hid hc0
              have HST := Lib.hid (show stOf (Cmpr.keep clsOf ((some (pre, s), mid) : St) x) = (q : Int) by rw [stOf_keep, if_pos hc0, Hq.out])
              clear hc0
              generalize hy : clsOf x = y at *
              have HY := Lib.hid hy
              clear hy
              go_wp2_with (at_builtin; refine wpList_app rfl _ _ _ rfl rfl rfl HA.out ?_)
              clear HA
              go_quiet (fail)
              go_wp2_with fail
              go_roundg m
              case measure => have := HMg.out; omega
              case rel => exact ⟨A', d', L.drop (j + 1), Cmpr.keep clsOf ((some (pre, s), mid) : St) x, rfl, by rw [HST.out], Lib.hid (HI.out.begun HL.out HMg.out HK.out (HY.out.trans HC0.out) Hq.out (own_up HO4.out ((Up.refl w4).drewN _)) (Hu4.out.drewN _) HR'.out)⟩
            · have hcb : ((clsOf x : Int) == 0) = false := by simp; omega
              have HBH := Lib.hid (keep_behind (σ := ((some (pre, s), mid) : St)) hc0)
              have HKI := Lib.hid (HI.out.kept hlt HK.out hc0 Hq.out HO4.out Hu4.out)
              clear hc0 hsl
              generalize hy : clsOf x = y at *
              clear hy
              go_wp2_with (at_builtin; refine wpList_app rfl _ _ _ rfl rfl rfl HA.out ?_)
              clear HA
              go_roundg (g - (j + 1))
              case measure => omega
              case rel => exact ⟨j + 1, Cmpr.keep clsOf ((some (pre, s), mid) : St) x, rfl, rfl, by rw [HBH.out], by go_num, by omega, HKI⟩
          | false =>
            have hbk : (back ((some (pre, s), mid) : St)).reverse = pre.reverse ++ s :: mid.reverse := by simp [back]
            have hlen2 : (back ((some (pre, s), mid) : St)).length = mid.length + (pre.length + 1) := by simp [back]
            obtain ⟨gb, rfl, hg1, hg2⟩ := own_addr HOw.out (by rw [hlen2]; omega)
            have hpl : pre.length < (back ((some (pre, s), mid) : St)).length := by rw [hlen2]; omega
            have HRC := Lib.hid (fun w' (u : Up wr w') => own_mid (P := pre.reverse) (Q := mid.reverse) (x := s) (q := pre.length) (by have := own_up HOw.out u; rw [hbk] at this; exact this) (List.length_reverse))
            cases h2 : twoO s x with
            | none =>
              have HK := Lib.hid (show run clsOf twoO (L.drop (j + 1)) (Cmpr.keep clsOf ((some (pre, s), mid) : St) x) = res from by
                have h1 := HS.out
                unfold Cmpr.step at h1
                simp only [hb, h2, Bool.false_eq_true, if_false] at h1
                exact h1.symm)
              have C2 := Lib.hid (fun w' u => H2.out s x w' u)
              rw [show twoOk s x = false from by unfold twoOk; rw [h2]; rfl] at C2
              rw [hb] at CB2
              clear HS H2 hb h2 hbk hlen2
              generalize twoC s x = t at *
              generalize hpn : pre.length = r at *
              have Hpn := Lib.hid hpn
              clear hpn
              go_wp2_with fail
              refine (C1.out _).mono ?_
              rintro e2 w2 ⟨rfl, hu2⟩
              have hcs := HRC.out w2 hu2
              clear HRC
              go_wp2_with fail
              refine (CB2.out _).mono ?_
              rintro e3 w3 ⟨rfl, rfl⟩
              go_wp2_with fail
              refine (C2.out _ (Hu.out.trans hu2)).mono ?_
              rintro e3 w3 ⟨rfl, hu3⟩
              clear hcs
              obtain ⟨B4, e4, w4, hap, hO4, hu4⟩ := own_push (own_up HOw.out (hu2.trans hu3)) hp ((Hu.out.trans hu2).trans hu3) x
              have HA := Lib.hid hap
              have HO4 := Lib.hid hO4
              have Hu4 := Lib.hid hu4
              clear hap hO4 hu4
              generalize hq : (back ((some (pre, s), mid) : St)).length = q at *
              have Hq := Lib.hid hq
              clear hq
              by_cases hc0 : clsOf x = 0
              · have hcb : ((clsOf x : Int) == 0) = true := by simp [hc0]
                have HC0 := Lib.hid hc0
                have HST := Lib.hid (show stOf (Cmpr.keep clsOf ((some (pre, s), mid) : St) x) = (q : Int) by rw [stOf_keep, if_pos hc0, Hq.out])
                clear hc0
                generalize hy : clsOf x = y at *
                have HY := Lib.hid hy
                clear hy
                go_wp2_with (at_builtin; refine wpList_app rfl _ _ _ rfl rfl rfl HA.out ?_)
                clear HA
                go_quiet (fail)
                go_wp2_with fail
                go_roundg m
                case measure => have := HMg.out; omega
                case rel => exact ⟨A', d', L.drop (j + 1), Cmpr.keep clsOf ((some (pre, s), mid) : St) x, rfl, by rw [HST.out], Lib.hid (HI.out.begun HL.out HMg.out HK.out (HY.out.trans HC0.out) Hq.out (own_up HO4.out ((Up.refl w4).drewN _)) (Hu4.out.drewN _) HR'.out)⟩
              · have hcb : ((clsOf x : Int) == 0) = false := by simp; omega
                have HBH := Lib.hid (keep_behind (σ := ((some (pre, s), mid) : St)) hc0)
                have HKI := Lib.hid (HI.out.kept hlt HK.out hc0 Hq.out HO4.out Hu4.out)
                clear hc0 hsl
                generalize hy : clsOf x = y at *
                clear hy
                go_wp2_with (at_builtin; refine wpList_app rfl _ _ _ rfl rfl rfl HA.out ?_)
                clear HA
                go_roundg (g - (j + 1))
                case measure => omega
                case rel => exact ⟨j + 1, Cmpr.keep clsOf ((some (pre, s), mid) : St) x, rfl, rfl, by rw [HBH.out], by go_num, by omega, HKI⟩
            | some t =>
              have HK := Lib.hid (show run clsOf twoO (L.drop (j + 1)) ((some (pre, t), mid) : St) = res from by
                have h1 := HS.out
                unfold Cmpr.step at h1
                simp only [hb, h2, Bool.false_eq_true, if_false] at h1
                exact h1.symm)
              have C2 := Lib.hid (fun w' u => H2.out s x w' u)
              rw [show twoOk s x = true from by unfold twoOk; rw [h2]; rfl, show twoC s x = t from by unfold twoC; rw [h2]; rfl] at C2
              rw [hb] at CB2
              have HW := Lib.hid (fun w3 (u : Up wr w3) => own_place t (own_up HOw.out u))
              have HF := Lib.hid (fun w3 (u : Up wr w3) => (own_up HOw.out u).frozenAt pre.length)
              have HLB := Lib.hid (show (back ((some (pre, t), mid) : St)).length = (back ((some (pre, s), mid) : St)).length by simp [back])
              clear HS H2 hb h2 hbk hlen2 hsl HR' HMg
              generalize hpn : pre.length = r at *
              have Hpn := Lib.hid hpn
              clear hpn
              go_wp2_with fail
              refine (C1.out _).mono ?_
              rintro e2 w2 ⟨rfl, hu2⟩
              have hcs := HRC.out w2 hu2
              go_wp2_with fail
              refine (CB2.out _).mono ?_
              rintro e3 w3 ⟨rfl, rfl⟩
              go_wp2_with fail
              refine (C2.out _ (Hu.out.trans hu2)).mono ?_
              rintro e3 w3 ⟨rfl, hu3⟩
              have hcs3 := HRC.out w3 (hu2.trans hu3)
              have hfs3 := HF.out w3 (hu2.trans hu3)
              go_wp2_with fail
              go_roundg (g - (j + 1))
              case measure => omega
              case rel =>
                refine ⟨j + 1, (some (pre, t), mid), rfl, rfl, rfl, by go_num, by omega, Lib.hid ⟨HK.out, by rw [HLB.out]; have := HI.out.2.1; omega, HMK.out, by show ((pre.length : Nat) : Int) = _; rw [Hpn.out], ?_, ((Hu.out.trans hu2).trans hu3).setCell hg1 _ _⟩⟩
                rw [HLB.out]
                exact HW.out w3 (hu2.trans hu3)
      · have hR : run clsOf twoO (L.drop j) τ = τ := by rw [List.drop_eq_nil_of_le (by rw [HL.out]; omega)]; rfl
        have hT : τ = res := hR.symm.trans HI.out.1
        have HG := Lib.hid (show Gives out w (.returned (.slice B (back τ).length e)) wr from Gives.of (n := (back τ).length) (by rw [Hco.out, ← hT, List.length_reverse]) (by rw [Hco.out, ← hT]; exact hO) hu)
        clear hR hT Hco hO hmk hst
        generalize (back τ).length = q at *
        go_wp2_with fail
        try rw [Exit.noGoto_ret]
        go_ret
        exact HG.out

theorem compose_ok : ComposeOk where
  two := fun a b w h _ _ => two_prog a b w h
  compose := fun A n d l w hr h hn hmax _ => compose_prog A n d l w hr h hn hmax

end Go.Proofs.YtipemmjbgegmfaaGreatDoor
