/- The statements of stage 5: the walks. -/
import Derived.Test.YtipemmjbgegmfaaDoorDca
import Derived.Test.YtipemmjbgegmfaaDoorFur
namespace Go.Proofs.YtipemmjbgegmfaaDoor
open Go.RowKit

theorem flat_id5 (l : List Nat) : (l.flatMap full).flatMap full = l.flatMap full := by
  have : ∀ m : List Nat, (∀ y ∈ m, full y = [y]) → m.flatMap full = m := fun m => by
    induction m with
    | nil => intro _; rfl
    | cons y m ih => intro h; rw [List.flatMap_cons, h y (by simp), ih fun z hz => h z (by simp [hz])]; rfl
  refine this _ fun y hy => ?_
  obtain ⟨x, _, hx⟩ := List.mem_flatMap.1 hy
  exact full_whole x y hx
theorem flat_lt (l : List Nat) (h : ∀ c ∈ l, c < 4294967296) : ∀ y ∈ l.flatMap full, y < 4294967296 := fun y hy => by
  obtain ⟨x, hx, hy⟩ := List.mem_flatMap.1 hy
  exact full_lt x (h x hx) y hy
theorem flat_ge (l : List Nat) : l.length ≤ (l.flatMap full).length := by
  induction l with
  | nil => simp
  | cons c l ih =>
    rw [List.flatMap_cons, List.length_append, List.length_cons]
    have := List.length_pos_iff.2 (full_some c)
    omega

set_option maxRecDepth 100000 in
set_option maxHeartbeats 800000 in
theorem lists_of (H : DecompOk) (A : Option Addr) (n d : Nat) (l : List Nat) (w : World) (h : HRows w) (hr : Rd w A d (us l)) (hn : n = l.length) (hl : ∀ c ∈ l, c < 4294967296) (_hmax : n ≤ d) (_hd : d * 4 ≤ 140737488351232) :
    Calls Tryd.prog 3 #[.slice A n d] w fun e w' => e = .returned (.bool true) ∧ Up w w' := by
  have c4 := Lib.hid (fun w h => awake_5 H w h)
  by_cases hb : 3000 < n
  · clear H hr hn hl
    go_enter Tryd.func3, Tryd.ntmps3
    go_wp2_with fail
    refine (c4.out _ h).mono ?_
    rintro e w1 ⟨rfl, hu⟩
    go_wp2_with fail
    go_ret
    exact ⟨rfl, hu⟩
  · obtain ⟨B, d1, w1, hap, hrd1, hu1, _⟩ := elU.copy (m := n) w 22 hr (by rw [us_len]; exact hn) (one_us l) (by omega) (by omega)
    have HA := Lib.hid hap
    have c1 := Lib.hid (H.list B n d1 l w1 (h.up hu1) hrd1 hn (by omega) hl)
    have c2 := Lib.hid (fun w' (u : Up w w') => list_ref5 A n d l w' (hr.up u) hn (by omega))
    have R1 := Lib.hid hrd1
    have R0 := Lib.hid hr
    have Hn := Lib.hid hn
    have hFl := flat_full_len l
    have hFm : (l.flatMap full).length ≤ 12000 := by omega
    have hFt := flat_lt l hl
    have HF := Lib.hid hFt
    clear H hap hrd1 hr hl hFl hFt hn
    generalize l.flatMap full = F at *
    go_enter Tryd.func3, Tryd.ntmps3
    go_wp2_with (at_builtin; refine wpList_app rfl _ _ _ rfl rfl rfl HA.out ?_)
    refine c1.out.mono ?_
    rintro e w2 ⟨C, d2, rfl, hO, hu2⟩
    have HO := Lib.hid hO
    clear hO
    go_wp2_with fail
    refine (c2.out _ (hu1.trans hu2)).mono ?_
    rintro e w3 ⟨D, d3, rfl, hO3, hu3⟩
    have hs := same_gen C D d2 d3 F.length F.length F F _ (own_read (own_up HO.out hu3)) (own_read hO3) rfl rfl
    rw [decide_eq_true (show F = F from rfl)] at hs
    have HS := Lib.hid hs
    clear hO3 hs
    go_wp2_with fail
    refine HS.out.mono ?_
    rintro e w4 ⟨rfl, hu4⟩
    have HO4 := Lib.hid (own_up HO.out (hu3.trans hu4))
    have hu14 : Up w1 w4 := (hu2.trans hu3).trans hu4
    clear HO HS hu2 hu3 hu4 c1 c2
    generalize hm : F.length = m at *
    have FL := Lib.hid hm
    clear hm
    go_wp2_with fail
    go_loopw [6] (fun i wr => ∃ (k : Nat) (ys : List Nat), k ≤ m ∧ i = .int .i64 (k : Int) ∧ Hid (ys.length = m) ∧ Hid (wr.ownsRow w1.heap.size 26 1 (.slice C m d2) m (us ys)) ∧ Up w1 wr) (fun i _ => m - (intOf i).toNat)
    case atStart => exact ⟨0, F, by omega, rfl, FL, HO4, hu14⟩
    case round =>
      obtain ⟨k, ys, hk, rfl, hys, hown, hux⟩ := hrel
      clear HO4 FL
      by_cases hlt : k < m
      · obtain ⟨g, rfl, hg1, hg2⟩ := own_addr hown.out (by omega)
        have hkl : k < ys.length := by rw [hys.out]; exact hlt
        have hcell : wr.cell? ⟨g, k, none⟩ = some (.int .u32 (ys[k] : Int)) := (hown.out.cellAt k (by omega)).trans (us_get ys k hkl)
        have hfr : wr.frozen? ⟨g, k, none⟩ = false := hown.out.frozenAt k
        generalize ys[k] = y at *
        have HB := Lib.hid (fun z hz => own_bump hown.out k z hz)
        have HU := Lib.hid (fun u => Up.setCell hux hg1 k u)
        clear hown
        go_wp2_with fail
        go_roundw
        case rel => exact ⟨k + 1, _, by omega, by go_num, Lib.hid (by rw [List.length_set]; exact hys.out), Lib.hid (HB.out _ (by omega)), HU.out _⟩
        case measure => simp [intOf]; omega
      · have hs := same_gen B A d1 d n n l l _ (R1.out.up hux) (R0.out.up (hu1.trans hux)) Hn.out Hn.out
        rw [decide_eq_true (show l = l from rfl)] at hs
        have HS := Lib.hid hs
        clear hs
        go_wp2_with fail
        refine HS.out.mono ?_
        rintro e w5 ⟨rfl, hu5⟩
        go_wp2_with fail
        refine (c4.out _ (h.up ((hu1.trans hux).trans hu5))).mono ?_
        rintro e w6 ⟨rfl, hu6⟩
        go_wp2_with fail
        go_ret
        exact ⟨rfl, ((hu1.trans hux).trans hu5).trans hu6⟩

end Go.Proofs.YtipemmjbgegmfaaDoor
