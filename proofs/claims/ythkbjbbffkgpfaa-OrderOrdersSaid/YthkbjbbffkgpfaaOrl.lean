/- The statements of stage 6: the walks. -/
import Derived.Test.YthkbjbbffkgpfaaOrc
namespace Go.Proofs.Ythkbjbbffkgpfaa
open Go.RowKit Go.Proofs.Ythkbjbbffkgpfaa.Ordr

set_option maxRecDepth 100000 in
set_option maxHeartbeats 800000 in
theorem orders_of (H : OrderOk) (A : Option Addr) (n d : Nat) (l : List Nat) (w : World) (hr : Rd w A d (us l)) (hn : n = l.length) (hl : ∀ c ∈ l, c < 4294967296) (_hmax : n ≤ d) (_hd : d * 4 ≤ 140737488351232) :
    Calls Try.prog 3 #[.slice A n d] w fun e w' => e = .returned (.bool true) ∧ Up w w' := by
  have c4 := Lib.hid (fun w => awake_6 H w)
  by_cases hb : 600 < n
  · clear H hr hn hl
    go_enter Try.func3, Try.ntmps3
    go_wp2_with fail
    refine (c4.out _).mono ?_
    rintro e w1 ⟨rfl, hu⟩
    go_wp2_with fail
    go_ret
    exact ⟨rfl, hu⟩
  · obtain ⟨B, d1, w1, hap, hrd1, hu1, _⟩ := elU.copy (m := n) w 22 hr (by rw [us_len]; exact hn) (one_us l) (by omega) (by omega)
    have HA := Lib.hid hap
    have c1 := Lib.hid (H.order B n d1 l w1 hrd1 hn (by omega) hl)
    have c2 := Lib.hid (fun w' (u : Up w w') => order_ref A n d l w' (hr.up u) hn (by omega))
    have R1 := Lib.hid hrd1
    have R0 := Lib.hid hr
    have Hn := Lib.hid hn
    have hFl := ord_len clsOf l
    have hFm : (ord clsOf l).length ≤ 12000 := by omega
    have hFt : ∀ y ∈ ord clsOf l, y < 4294967296 := fun y hy => hl y ((ord_perm clsOf l).mem_iff.1 hy)
    have HF := Lib.hid hFt
    clear H hap hrd1 hr hl hFl hFt hn
    generalize ord clsOf l = F at *
    go_enter Try.func3, Try.ntmps3
    go_wp2_with (at_builtin; refine wpList_app rfl _ _ _ rfl rfl rfl HA.out ?_)
    refine c1.out.mono ?_
    rintro e w2 ⟨C, d2, rfl, hO, hu2⟩
    have HO := Lib.hid hO
    clear hO
    go_wp2_with fail
    refine (c2.out _ (hu1.trans hu2)).mono ?_
    rintro e w3 ⟨D, d3, rfl, hO3, hu3⟩
    have hs := same_gen C D d2 d3 F.length F.length F F _ (own_read (own_up HO.out hu3)) (own_read hO3) rfl rfl
    rw [decide_eq_true (show F = F from rfl)] at hs
    have HS := Lib.hid hs
    clear hO3 hs
    go_wp2_with fail
    refine HS.out.mono ?_
    rintro e w4 ⟨rfl, hu4⟩
    have HO4 := Lib.hid (own_up HO.out (hu3.trans hu4))
    have hu14 : Up w1 w4 := (hu2.trans hu3).trans hu4
    clear HO HS hu2 hu3 hu4 c1 c2
    generalize hm : F.length = m at *
    have FL := Lib.hid hm
    clear hm
    go_wp2_with fail
    go_loopw [6] (fun i wr => ∃ (k : Nat) (ys : List Nat), k ≤ m ∧ i = .int .i64 (k : Int) ∧ Hid (ys.length = m) ∧ Hid (wr.ownsRow w1.heap.size 26 1 (.slice C m d2) m (us ys)) ∧ Up w1 wr) (fun i _ => m - (intOf i).toNat)
    case atStart => exact ⟨0, F, by omega, rfl, FL, HO4, hu14⟩
    case round =>
      obtain ⟨k, ys, hk, rfl, hys, hown, hux⟩ := hrel
      clear HO4 FL
      by_cases hlt : k < m
      · obtain ⟨g, rfl, hg1, hg2⟩ := own_addr hown.out (by omega)
        have hkl : k < ys.length := by rw [hys.out]; exact hlt
        have hcell : wr.cell? ⟨g, k, none⟩ = some (.int .u32 (ys[k] : Int)) := (hown.out.cellAt k (by omega)).trans (us_get ys k hkl)
        have hfr : wr.frozen? ⟨g, k, none⟩ = false := hown.out.frozenAt k
        generalize ys[k] = y at *
        have HB := Lib.hid (fun z hz => own_bump hown.out k z hz)
        have HU := Lib.hid (fun u => Up.setCell hux hg1 k u)
        clear hown
        go_wp2_with fail
        go_roundw
        case rel => exact ⟨k + 1, _, by omega, by go_num, Lib.hid (by rw [List.length_set]; exact hys.out), Lib.hid (HB.out _ (by omega)), HU.out _⟩
        case measure => simp [intOf]; omega
      · have hs := same_gen B A d1 d n n l l _ (R1.out.up hux) (R0.out.up (hu1.trans hux)) Hn.out Hn.out
        rw [decide_eq_true (show l = l from rfl)] at hs
        have HS := Lib.hid hs
        clear hs
        go_wp2_with fail
        refine HS.out.mono ?_
        rintro e w5 ⟨rfl, hu5⟩
        go_wp2_with fail
        refine (c4.out _).mono ?_
        rintro e w6 ⟨rfl, hu6⟩
        go_wp2_with fail
        go_ret
        exact ⟨rfl, ((hu1.trans hux).trans hu5).trans hu6⟩


set_option maxRecDepth 100000 in
set_option maxHeartbeats 800000 in
theorem is_of (H : OrderOk) (A : Option Addr) (n d : Nat) (l : List Nat) (w : World) (hr : Rd w A d (us l)) (hn : n = l.length) (hl : ∀ c ∈ l, c < 4294967296) :
    Calls Try.prog 4 #[.slice A n d] w fun e w' => e = .returned (.bool true) ∧ Up w w' := by
  have c4 := Lib.hid (fun w => awake_6 H w)
  by_cases hb : 3000 < n
  · clear H hr hn hl
    go_enter Try.func4, Try.ntmps4
    go_wp2_with fail
    refine (c4.out _).mono ?_
    rintro e w1 ⟨rfl, hu⟩
    go_wp2_with fail
    go_ret
    exact ⟨rfl, hu⟩
  · have c1 := Lib.hid (H.classes A n d l w hr hn (by omega) hl)
    have c2 := Lib.hid (fun w' (u : Up w w') => H.is A n d l w' (hr.up u) hn (by omega) hl)
    have c3 := Lib.hid (fun w' (u : Up w w') => is_ref A n d l w' (hr.up u) hn (by omega))
    have cc := Lib.hid class_ref
    have R0 := Lib.hid hr
    have hf := hr.fit
    rw [us_len, ← hn] at hf
    have HG := Lib.hid (ks_get (l.map clsOf))
    have Hn := Lib.hid hn
    have hkl : (l.map clsOf).length = n := by rw [List.length_map]; exact hn.symm
    unfold GivesK at c1
    rw [hkl] at c1
    have HK := Lib.hid (fun i (hi : i < l.length) => show (l.map clsOf)[i]? = some (clsOf l[i]) from by rw [List.getElem?_map, List.getElem?_eq_getElem hi]; rfl)
    clear H hr hn hl hkl
    generalize hcl : l.map clsOf = K at *
    have HKL : Hid (K.length = n) := Lib.hid (by rw [← hcl, List.length_map]; exact Hn.out.symm)
    clear hcl
    generalize ordB clsOf l = ob at *
    generalize hcls : clsOf = cls at *
    clear hcls
    go_enter Try.func4, Try.ntmps4
    go_wp2_with fail
    refine c1.out.mono ?_
    rintro e w1 ⟨B, d1, rfl, hO, hu1⟩
    have HO := Lib.hid hO
    clear hO c1
    go_wp2_with fail
    go_loopw [4] (fun i wr => ∃ k : Nat, k ≤ n ∧ i = .int .i64 (k : Int) ∧ Up w1 wr) (fun i _ => n - (intOf i).toNat)
    case atStart => exact ⟨0, by omega, rfl, Up.refl _⟩
    case round =>
      obtain ⟨k, hk, rfl, hux⟩ := hrel
      by_cases hlt : k < n
      · have hkl : k < l.length := by rw [← Hn.out]; exact hlt
        obtain ⟨a, rfl, _⟩ := R0.out.ad (by omega)
        obtain ⟨g, rfl, hg1, hg2⟩ := own_addr HO.out (by omega)
        have hKk : K[k]'(by rw [HKL.out]; exact hlt) = cls l[k] := by
          have := HK.out k hkl
          rw [List.getElem?_eq_getElem (by rw [HKL.out]; exact hlt)] at this
          exact Option.some.inj this
        have HCa := Lib.hid (fun w' (u : Up wr w') => show w'.cell? (a.add k) = some (.int .u32 (l[k] : Int)) from (R0.out.up ((hu1.trans hux).trans u)).cell a rfl k _ (us_get l k hkl))
        have HCb := Lib.hid (fun w' (u : Up wr w') => show w'.cell? ⟨g, k, none⟩ = some (.int .i64 (cls l[k] : Int)) from by
          rw [(own_up HO.out (hux.trans u)).cellAt k (by omega), HG.out k (by rw [HKL.out]; exact hlt), hKk])
        have Cc := Lib.hid (cc.out l[k])
        have hge : decide (n ≤ k) = false := decide_eq_false (by omega)
        clear HG HK hKk
        generalize l[k] = x at *
        generalize cls x = c at *
        go_wp2_with fail
        refine wp_region_pi [(0, false), (1, false), (2, false), (3, false), (4, false), (5, false), (6, false), (7, false), (8, false), (9, false), (10, false), (11, false), (12, false), (13, true), (14, false), (15, false)] (by kernel_rfl) (by kernel_rfl) (fun _ _ d _ _ h => by cases d <;> exact h) ?_
        iterate 13 (((with_reducible apply pi_take); (focus exact rfl); (focus exact rfl); (focus (intro w' hu; have hcx := HCa.out w' (Up.of_drew hu); have hcy := HCb.out w' (Up.of_drew hu); go_simp; try with_reducible rfl; done))); (simp only [Act.put, List.setIfInBounds_toArray, List.set_cons_succ, List.set_cons_zero]))
        refine pi_make rfl rfl (fun Kx hKx => ?_)
        go_simp
        refine (Cc.out _).mono ?_
        rintro e w2 ⟨rfl, hu2⟩
        refine hKx.out _ _ hu2 ?_
        clear hKx Kx
        iterate 2 (((with_reducible apply pi_take); (focus exact rfl); (focus exact rfl); (focus (intro w' hu; go_simp; try with_reducible rfl; done))); (simp only [Act.put, List.setIfInBounds_toArray, List.set_cons_succ, List.set_cons_zero]))
        refine pi_done ?_
        go_wp2_with fail
        go_roundw
        case rel => exact ⟨k + 1, by omega, by go_num, hux.trans (Up.of_drew hu2)⟩
        case measure => simp [intOf]; omega
      · have hk2 : k = n := by omega
        go_wp2_with fail
        refine (c2.out _ (hu1.trans hux)).mono ?_
        rintro e w2 ⟨rfl, hu2⟩
        go_wp2_with fail
        refine (c3.out _ ((hu1.trans hux).trans hu2)).mono ?_
        rintro e w3 ⟨rfl, hu3⟩
        go_wp2_with fail
        refine (c4.out _).mono ?_
        rintro e w4 ⟨rfl, hu4⟩
        go_wp2_with fail
        go_ret
        exact ⟨rfl, (((hu1.trans hux).trans hu2).trans hu3).trans hu4⟩

end Go.Proofs.Ythkbjbbffkgpfaa
