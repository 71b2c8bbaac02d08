/- The statements of stage 6: two lists, one behind the other. -/
import Derived.Test.YthkbjbbffkgpfaaOrm
namespace Go.Proofs.Ythkbjbbffkgpfaa
open Go.RowKit Go.Proofs.Ythkbjbbffkgpfaa.Ordr

set_option maxRecDepth 100000 in
set_option maxHeartbeats 1600000 in
theorem parts_of6 (H : OrderOk) (A B : Option Addr) (n d m e : Nat) (a b : List Nat) (w : World) (hr : Rd w A d (us a)) (hr2 : Rd w B e (us b)) (hn : n = a.length) (hm : m = b.length) (hl : ∀ c ∈ a, c < 4294967296) (hl2 : ∀ c ∈ b, c < 4294967296) :
    Calls Try.prog 7 #[.slice A n d, .slice B m e] w fun e w' => e = .returned (.bool true) ∧ Up w w' := by
  have c4 := Lib.hid (fun w => awake_6 H w)
  by_cases hb : 500 < n
  · clear H hr hn hl hr2 hm hl2
    go_enter Try.func7, Try.ntmps7
    go_wp2_with fail
    refine (c4.out _).mono ?_
    rintro e w1 ⟨rfl, hu⟩
    go_wp2_with fail
    go_ret
    exact ⟨rfl, hu⟩
  by_cases hb2 : 500 < m
  · clear H hr hn hl hr2 hm hl2
    go_enter Try.func7, Try.ntmps7
    go_wp2_with fail
    refine (c4.out _).mono ?_
    rintro e w1 ⟨rfl, hu⟩
    go_wp2_with fail
    go_ret
    exact ⟨rfl, hu⟩
  have hkl : (b.map clsOf).length = m := by rw [List.length_map]; exact hm.symm
  have c0 := H.classes B m e b w hr2 hm (by omega) hl2
  unfold GivesK at c0
  rw [hkl] at c0
  have C0 := Lib.hid c0
  clear c0
  by_cases hz : ∃ z t, b = z :: t ∧ clsOf z ≠ 0
  · obtain ⟨z, t, rfl, hz⟩ := hz
    have hm1 : 0 < m := by rw [hm]; simp
    have hzb : ((clsOf z : Int) != 0) = true := by simp; omega
    clear H hr hn hl hr2 hm hl2 hkl
    have hks : Hid ((ks ((z :: t).map clsOf))[0]? = some (.int .i64 (clsOf z : Int))) := Lib.hid rfl
    generalize clsOf z = c at *
    go_enter Try.func7, Try.ntmps7
    go_wp2_with fail
    refine C0.out.mono ?_
    rintro e w1 ⟨K, dk, rfl, hO, hu⟩
    obtain ⟨g, rfl, hg1, hg2⟩ := own_addr hO hm1
    have hcell : w1.cell? ⟨g, 0, none⟩ = some (.int .i64 (c : Int)) := (hO.cellAt 0 (by omega)).trans hks.out
    clear hO C0
    go_wp2_with fail
    refine (c4.out _).mono ?_
    rintro e w2 ⟨rfl, hu2⟩
    go_wp2_with fail
    go_ret
    exact ⟨rfl, hu.trans hu2⟩
  have hz0 : ∀ z t, b = z :: t → clsOf z = 0 := fun z t hzt => Decidable.byContradiction fun h => hz ⟨z, t, hzt, h⟩
  have hop := ord_parts clsOf a hz0
  have hR0 := Lib.hid hr
  have hR2 := Lib.hid hr2
  have hk0 : Hid (0 < m → (ks (b.map clsOf))[0]? = some (.int .i64 0)) := Lib.hid fun h0 => by
    cases b with
    | nil => rw [hm] at h0; exact absurd h0 (by simp)
    | cons z t =>
      have := hz0 z t rfl
      show some (Value.int .i64 ((clsOf z : Nat) : Int)) = _
      rw [this]; rfl
  have cO := Lib.hid (fun w1 (u1 : Up w w1) => by
    obtain ⟨A1, d1, w2, hap1, hrd1, hu1, hown1⟩ := elU.copy (m := n) w1 22 (hr.up u1) (by rw [us_len]; exact hn) (one_us a) (by omega) (by omega)
    obtain ⟨A2, d2, w3, hap2, hown2, hu2⟩ := app_us hown1 ((hr2.up u1).up hu1) hm (by omega) hu1.size
    have c1 := H.order A2 (n + m) d2 (a ++ b) w3 (own_read hown2) (by rw [List.length_append]; omega) (by omega) (fun c hc => by rcases List.mem_append.1 hc with hc | hc; exact hl c hc; exact hl2 c hc)
    rw [hop] at c1
    exact (⟨A1, d1, w2, A2, d2, w3, hap1, hap2, hu2 w1 rfl hu1, c1⟩ : ∃ A1 d1 w2 A2 d2 w3, (Builtin.append_ #[22, 22] 22 #[.slice (some ⟨w1.heap.size, 0, none⟩) 0 0, .slice A n d]).run Try.prog (w1.alloc (.cells #[] 26)) = .ok (.slice A1 n d1) w2 ∧
      (Builtin.append_ #[22, 22] 22 #[.slice A1 n d1, .slice B m e]).run Try.prog w2 = .ok (.slice A2 (n + m) d2) w3 ∧ Up w1 w3 ∧ Calls Try.prog 9 #[.slice A2 (n + m) d2] w3 (Gives (ord clsOf a ++ ord clsOf b) w3)))
  have c2 := Lib.hid (fun w' (u : Up w w') => H.order A n d a w' (hr.up u) hn (by omega) hl)
  have c3 := Lib.hid (fun w' (u : Up w w') => H.order B m e b w' (hr2.up u) hm (by omega) hl2)
  have hF1 : (ord clsOf a).length ≤ 8000 := by rw [ord_len]; omega
  have hG1 : (ord clsOf b).length ≤ 8000 := by rw [ord_len]; omega
  have Hm := Lib.hid hm
  clear H hr hr2 hn hm hl hl2 hz hz0 hop hkl
  generalize ord clsOf a = F at *
  generalize ord clsOf b = G at *
  go_enter Try.func7, Try.ntmps7
  go_wp2_with fail
  refine C0.out.mono ?_
  rintro e w1 ⟨K, dk, rfl, hK, hu01⟩
  have HKK := Lib.hid hK
  obtain ⟨A1, d1, w2, A2, d2, w3, hap1, hap2, hu2, c1⟩ := cO.out w1 hu01
  have HA1 := Lib.hid hap1
  have HA2 := Lib.hid hap2
  have C1 := Lib.hid c1
  have hu02 := hu01.trans hu2
  clear hK C0 cO hap1 hap2 c1
  have tok : True := trivial
  by_cases hm0 : m = 0
  case' neg =>
    obtain ⟨g, rfl, hg1, hg2⟩ := own_addr HKK.out (by omega)
    have hcell : w1.cell? ⟨g, 0, none⟩ = some (.int .i64 0) := (HKK.out.cellAt 0 (by omega)).trans (hk0.out (by omega))
    have hmp : 0 < m := by omega
    clear hm0
  case' pos => subst hm0
  all_goals
    clear HKK hk0 Hm hR0 hR2
    go_wp2_with (first | (at_builtin; have _t := tok; refine wpList_app rfl _ _ _ rfl rfl rfl HA1.out ?_; clear tok) | (at_builtin; refine wpList_app rfl _ _ _ rfl rfl rfl HA2.out ?_))
    refine C1.out.mono ?_
    rintro e w3 ⟨X, dx, rfl, hO, hu3⟩
    have hu03 := hu02.trans hu3
    have HO := Lib.hid hO
    have hE := own_empty w3 26
    have uE : Up w3 (w3.alloc (.cells #[] 26)) := (Up.refl w3).alloc _
    clear hO C1 HA1 HA2
    go_wp2_with fail
    refine (c2.out _ (hu03.trans uE)).mono ?_
    rintro e w4 ⟨Y, dy, rfl, hO4, hu4⟩
    obtain ⟨A5, d5, w5, hap5, hown5, hu5⟩ := app_us (xs := []) (own_up hE hu4) (own_read hO4) rfl (by omega) (Nat.le_trans uE.size hu4.size)
    have hu35 := hu5 w3 rfl (uE.trans hu4)
    rw [Nat.zero_add, List.nil_append] at hown5
    rw [Nat.zero_add] at hap5
    have HA5 := Lib.hid hap5
    have HO5 := Lib.hid hown5
    clear hO4 hap5 hown5 hE hu5
    go_wp2_with (at_builtin; refine wpList_app rfl _ _ _ rfl rfl rfl HA5.out ?_)
    refine (c3.out _ (hu03.trans hu35)).mono ?_
    rintro e w6 ⟨Z, dz, rfl, hO6, hu6⟩
    obtain ⟨A7, d7, w7, hap7, hown7, hu7⟩ := app_us (own_up HO5.out hu6) (own_read hO6) rfl (by omega) (Nat.le_trans hu35.size hu6.size)
    have hu37 := hu7 w3 rfl (hu35.trans hu6)
    have HA7 := Lib.hid hap7
    have hs := same_gen X A7 dx d7 (F.length + G.length) (F.length + G.length) (F ++ G) (F ++ G) w7 (own_read (own_up HO.out hu37)) (own_read hown7) (by rw [List.length_append]) (by rw [List.length_append])
    rw [decide_eq_true (show F ++ G = F ++ G from rfl)] at hs
    have HS := Lib.hid hs
    clear hO6 hap7 hown7 hu7 hs HO HO5 c2 c3
    go_wp2_with (at_builtin; refine wpList_app rfl _ _ _ rfl rfl rfl HA7.out ?_)
    refine HS.out.mono ?_
    rintro e w8 ⟨rfl, hu8⟩
    have hu08 := (hu03.trans hu37).trans hu8
    go_wp2_with fail
    refine (c4.out _).mono ?_
    rintro e w9 ⟨rfl, hu9⟩
    go_wp2_with fail
    go_ret
    exact ⟨rfl, hu08.trans hu9⟩

end Go.Proofs.Ythkbjbbffkgpfaa
