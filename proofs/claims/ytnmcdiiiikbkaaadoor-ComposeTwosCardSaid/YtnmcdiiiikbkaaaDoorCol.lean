/- The statements of stage 7: the walks. -/
import Derived.Test.YtnmcdiiiikbkaaaDoorCoy
namespace Go.Proofs.YtnmcdiiiikbkaaaDoor
open Go.RowKit Go.Proofs.YtnmcdiiiikbkaaaDoor.Ordr Go.Proofs.YtnmcdiiiikbkaaaDoor.Cmpr

theorem comp_lt (l : List Nat) (h : ∀ c ∈ l, c < 4294967296) : ∀ y ∈ comp clsOf twoO l, y < 4294967296 := fun y hy => by
  refine back_from clsOf twoO (fun y => y < 4294967296) (fun s c x hx => two_lt hx) l (none, []) h (fun y hy => absurd hy (by simp [back])) y ?_
  unfold comp at hy
  exact List.mem_reverse.1 hy
theorem two_pairs_lt {a b : Nat} : twoC a b < 4294967296 := by
  unfold twoC
  cases h : twoO a b with
  | none => exact (by decide : (0 : Nat) < 4294967296)
  | some x => exact two_lt h

set_option maxRecDepth 100000 in
theorem twos_of (H : ComposeOk) (a b : Nat) (ha : a < 4294967296) (hb : b < 4294967296) (w : World) (h : HRows w) : Calls Tryd.prog 9 #[.int .u32 (a : Int), .int .u32 (b : Int)] w fun e w' => e = .returned (.bool true) ∧ Up w w' := by
  have c4 := Lib.hid (fun w h => awake_7 H w h)
  have c1 := Lib.hid (H.two a b w h ha hb)
  have c2 := Lib.hid (two_ref a b)
  clear H ha hb
  generalize twoC a b = x at *
  generalize twoOk a b = o at *
  go_enter Tryd.func9, Tryd.ntmps9
  go_wp2_with fail
  refine c1.out.mono ?_
  rintro e w1 ⟨rfl, hu1⟩
  go_wp2_with fail
  refine (c2.out _).mono ?_
  rintro e w2 ⟨rfl, hu2⟩
  go_wp2_with fail
  refine (c4.out _ (h.up (hu1.trans hu2))).mono ?_
  rintro e w3 ⟨rfl, hu3⟩
  go_wp2_with fail
  go_ret
  exact ⟨rfl, (hu1.trans hu2).trans hu3⟩

set_option maxRecDepth 100000 in
set_option maxHeartbeats 800000 in
theorem composes_of7 (H : ComposeOk) (A : Option Addr) (n d : Nat) (l : List Nat) (w : World) (h : HRows w) (hr : Rd w A d (us l)) (hn : n = l.length) (hl : ∀ c ∈ l, c < 4294967296) (_hmax : n ≤ d) (_hd : d * 4 ≤ 140737488351232) :
    Calls Tryd.prog 10 #[.slice A n d] w fun e w' => e = .returned (.bool true) ∧ Up w w' := by
  have c4 := Lib.hid (fun w h => awake_7 H w h)
  by_cases hb : 1000 < n
  · clear H hr hn hl
    go_enter Tryd.func10, Tryd.ntmps10
    go_wp2_with fail
    refine (c4.out _ h).mono ?_
    rintro e w1 ⟨rfl, hu⟩
    go_wp2_with fail
    go_ret
    exact ⟨rfl, hu⟩
  · obtain ⟨B, d1, w1, hap, hrd1, hu1, _⟩ := elU.copy (m := n) w 23 hr (by rw [us_len]; exact hn) (one_us l) (by omega) (by omega)
    have HA := Lib.hid hap
    have c1 := Lib.hid (H.compose B n d1 l w1 (h.up hu1) hrd1 hn (by omega) hl)
    have c2 := Lib.hid (fun w' (u : Up w w') => compose_ref A n d l w' (hr.up u) hn (by omega))
    have R1 := Lib.hid hrd1
    have R0 := Lib.hid hr
    have Hn := Lib.hid hn
    have hFl := comp_len clsOf twoO l
    have hFm : (comp clsOf twoO l).length ≤ 12000 := by omega
    have hFt := comp_lt l hl
    have HF := Lib.hid hFt
    clear H hap hrd1 hr hl hFl hFt hn
    generalize comp clsOf twoO l = F at *
    go_enter Tryd.func10, Tryd.ntmps10
    go_wp2_with (at_builtin; refine wpList_app rfl _ _ _ rfl rfl rfl HA.out ?_)
    refine c1.out.mono ?_
    rintro e w2 ⟨C, d2, rfl, hO, hu2⟩
    have HO := Lib.hid hO
    clear hO
    go_wp2_with fail
    refine (c2.out _ (hu1.trans hu2)).mono ?_
    rintro e w3 ⟨D, d3, rfl, hO3, hu3⟩
    have hs := same_gen C D d2 d3 F.length F.length F F _ (own_read (own_up HO.out hu3)) (own_read hO3) rfl rfl
    rw [decide_eq_true (show F = F from rfl)] at hs
    have HS := Lib.hid hs
    clear hO3 hs
    go_wp2_with fail
    refine HS.out.mono ?_
    rintro e w4 ⟨rfl, hu4⟩
    have HO4 := Lib.hid (own_up HO.out (hu3.trans hu4))
    have hu14 : Up w1 w4 := (hu2.trans hu3).trans hu4
    clear HO HS hu2 hu3 hu4 c1 c2
    generalize hm : F.length = m at *
    have FL := Lib.hid hm
    clear hm
    go_wp2_with fail
    go_loopw [6] (fun i wr => ∃ (k : Nat) (ys : List Nat), k ≤ m ∧ i = .int .i64 (k : Int) ∧ Hid (ys.length = m) ∧ Hid (wr.ownsRow w1.heap.size 22 1 (.slice C m d2) m (us ys)) ∧ Up w1 wr) (fun i _ => m - (intOf i).toNat)
    case atStart => exact ⟨0, F, by omega, rfl, FL, HO4, hu14⟩
    case round =>
      obtain ⟨k, ys, hk, rfl, hys, hown, hux⟩ := hrel
      clear HO4 FL
      by_cases hlt : k < m
      · obtain ⟨g, rfl, hg1, hg2⟩ := own_addr hown.out (by omega)
        have hkl : k < ys.length := by rw [hys.out]; exact hlt
        have hcell : wr.cell? ⟨g, k, none⟩ = some (.int .u32 (ys[k] : Int)) := (hown.out.cellAt k (by omega)).trans (us_get ys k hkl)
        have hfr : wr.frozen? ⟨g, k, none⟩ = false := hown.out.frozenAt k
        generalize ys[k] = y at *
        have HB := Lib.hid (fun z hz => own_bump hown.out k z hz)
        have HU := Lib.hid (fun u => Up.setCell hux hg1 k u)
        clear hown
        go_wp2_with fail
        go_roundw
        case rel => exact ⟨k + 1, _, by omega, by go_num, Lib.hid (by rw [List.length_set]; exact hys.out), Lib.hid (HB.out _ (by omega)), HU.out _⟩
        case measure => simp [intOf]; omega
      · have hs := same_gen B A d1 d n n l l _ (R1.out.up hux) (R0.out.up (hu1.trans hux)) Hn.out Hn.out
        rw [decide_eq_true (show l = l from rfl)] at hs
        have HS := Lib.hid hs
        clear hs
        go_wp2_with fail
        refine HS.out.mono ?_
        rintro e w5 ⟨rfl, hu5⟩
        go_wp2_with fail
        refine (c4.out _ (h.up ((hu1.trans hux).trans hu5))).mono ?_
        rintro e w6 ⟨rfl, hu6⟩
        go_wp2_with fail
        go_ret
        exact ⟨rfl, ((hu1.trans hux).trans hu5).trans hu6⟩

end Go.Proofs.YtnmcdiiiikbkaaaDoor
