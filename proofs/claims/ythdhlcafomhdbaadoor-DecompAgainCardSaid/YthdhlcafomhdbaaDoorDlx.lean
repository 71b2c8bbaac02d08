/- The statements of stage 5: the walks of the other three. -/
import Derived.Test.YthdhlcafomhdbaaDoorDlw
import Derived.Test.YthdhlcafomhdbaaDoorHgq
namespace Go.Proofs.YthdhlcafomhdbaaDoor
open Go.RowKit

set_option maxRecDepth 100000 in
set_option maxHeartbeats 800000 in
theorem again_of (H : DecompOk) (A : Option Addr) (n d : Nat) (l : List Nat) (w : World) (h : HRows w) (hr : Rd w A d (us l)) (hn : n = l.length) (hl : ∀ c ∈ l, c < 4294967296) (_hmax : n ≤ d) (_hd : d * 4 ≤ 140737488351232) :
    Calls Tryd.prog 5 #[.slice A n d] w fun e w' => e = .returned (.bool true) ∧ Up w w' := by
  have c4 := Lib.hid (fun w h => awake_5 H w h)
  by_cases hb : 2000 < n
  · clear H hr hn hl
    go_enter Tryd.func5, Tryd.ntmps5
    go_wp2_with fail
    refine (c4.out _ h).mono ?_
    rintro e w1 ⟨rfl, hu⟩
    go_wp2_with fail
    go_ret
    exact ⟨rfl, hu⟩
  · have hFl := flat_full_len l
    have hFg := flat_ge l
    have c1 := Lib.hid (H.list A n d l w h hr hn (by omega) hl)
    have HW := Lib.hid H.whole
    have c2 := H.list
    have hFm : (l.flatMap full).length ≤ 4 * n := by omega
    have hFn : n ≤ (l.flatMap full).length := by omega
    have HF := Lib.hid (flat_lt l hl)
    have HI := Lib.hid (flat_id5 l)
    have HM := Lib.hid (fun y (hy : y ∈ l.flatMap full) => (by obtain ⟨x, _, hx⟩ := List.mem_flatMap.1 hy; exact full_whole x y hx : full y = [y]))
    clear H hr hn hl hFl hFg
    generalize l.flatMap full = F at *
    have c3 : Hid (∀ (A : Option Addr) (d : Nat) (w : World), HRows w → Rd w A d (us F) → Calls Tryd.prog 13 #[.slice A F.length d] w (Gives F w)) := Lib.hid fun A d w hw hr => by
      have := c2 A F.length d F w hw hr rfl (by omega) HF.out
      rwa [HI.out] at this
    clear c2
    go_enter Tryd.func5, Tryd.ntmps5
    go_wp2_with fail
    refine c1.out.mono ?_
    rintro e w1 ⟨B, d1, rfl, hO, hu⟩
    have HO := Lib.hid hO
    clear hO c1
    generalize hm : F.length = m at *
    have FL := Lib.hid hm
    clear hm
    go_wp2_with fail
    go_loopw [4] (fun i wr => ∃ k : Nat, k ≤ m ∧ i = .int .i64 (k : Int) ∧ Up w1 wr) (fun i _ => m - (intOf i).toNat)
    case atStart => exact ⟨0, by omega, rfl, Up.refl w1⟩
    case round =>
      obtain ⟨k, hk, rfl, hux⟩ := hrel
      by_cases hlt : k < m
      · have hkl : k < F.length := by rw [FL.out]; exact hlt
        obtain ⟨g, rfl, hg1, hg2⟩ := own_addr HO.out (by omega)
        have hcell : wr.cell? ⟨g, k, none⟩ = some (.int .u32 (F[k] : Int)) := ((own_up HO.out hux).cellAt k (by omega)).trans (us_get F k hkl)
        have C := HW.out F[k] wr (h.up (hu.trans hux)) (HF.out _ (List.getElem_mem hkl))
        rw [decide_eq_true (HM.out _ (List.getElem_mem hkl))] at C
        have HC := Lib.hid C
        clear C
        generalize F[k] = y at *
        go_wp2_with fail
        refine HC.out.mono ?_
        rintro e w2 ⟨rfl, hu2⟩
        go_wp2_with fail
        go_roundw
        case rel => exact ⟨k + 1, by omega, by go_num, hux.trans hu2⟩
        case measure => simp [intOf]; omega
      · clear HW HM HI HF
        have R2 := Lib.hid (own_read (own_up HO.out hux))
        have hge : decide ((n : Int) ≤ (m : Int)) = true := decide_eq_true (by omega)
        have hle : decide ((m : Int) ≤ 4 * (n : Int)) = true := decide_eq_true (by omega)
        have hu1 := hu.trans hux
        go_wp2_with fail
        refine (c3.out B d1 _ (h.up hu1) R2.out).mono ?_
        rintro e w3 ⟨C, d3, rfl, hO3, hu3⟩
        have hs := same_gen C B d3 d1 F.length m F F _ (own_read hO3) (R2.out.up hu3) rfl FL.out.symm
        rw [decide_eq_true (show F = F from rfl)] at hs
        have HS := Lib.hid hs
        clear hs hO3 c3
        go_wp2_with fail
        refine HS.out.mono ?_
        rintro e w5 ⟨rfl, hu5⟩
        go_wp2_with fail
        refine (c4.out _ (h.up ((hu1.trans hu3).trans hu5))).mono ?_
        rintro e w6 ⟨rfl, hu6⟩
        go_wp2_with fail
        go_ret
        exact ⟨rfl, ((hu1.trans hu3).trans hu5).trans hu6⟩

set_option maxRecDepth 100000 in
set_option maxHeartbeats 800000 in
theorem joins_of5 (H : DecompOk) (A B : Option Addr) (n d m e : Nat) (a b : List Nat) (w : World) (h : HRows w) (hr : Rd w A d (us a)) (hr2 : Rd w B e (us b)) (hn : n = a.length) (hm : m = b.length) (hl : ∀ c ∈ a, c < 4294967296) (hl2 : ∀ c ∈ b, c < 4294967296)
    (_hmax : n ≤ d) (_hd : d * 4 ≤ 140737488351232) (_hmax2 : m ≤ e) (_he : e * 4 ≤ 140737488351232) :
    Calls Tryd.prog 6 #[.slice A n d, .slice B m e] w fun e w' => e = .returned (.bool true) ∧ Up w w' := by
  have c4 := Lib.hid (fun w h => awake_5 H w h)
  by_cases hb : 2000 < n
  · clear H hr hn hl hr2 hm hl2
    go_enter Tryd.func6, Tryd.ntmps6
    go_wp2_with fail
    refine (c4.out _ h).mono ?_
    rintro e w1 ⟨rfl, hu⟩
    go_wp2_with fail
    go_ret
    exact ⟨rfl, hu⟩
  · by_cases hb2 : 2000 < m
    · clear H hr hn hl hr2 hm hl2
      go_enter Tryd.func6, Tryd.ntmps6
      go_wp2_with fail
      refine (c4.out _ h).mono ?_
      rintro e w1 ⟨rfl, hu⟩
      go_wp2_with fail
      go_ret
      exact ⟨rfl, hu⟩
    · obtain ⟨A1, d1, w1, hap1, hrd1, hu1, hown1⟩ := elU.copy (m := n) w 23 hr (by rw [us_len]; exact hn) (one_us a) (by omega) (by omega)
      obtain ⟨A2, d2, w2, hap2, hown2, hu2⟩ := app_us hown1 (hr2.up hu1) hm (by omega) hu1.size
      have hu02 := hu2 w rfl hu1
      have HA1 := Lib.hid hap1
      have HA2 := Lib.hid hap2
      have hFa := flat_full_len a
      have hFb := flat_full_len b
      have c1 := Lib.hid (H.list A2 (n + m) d2 (a ++ b) w2 (h.up hu02) (own_read hown2) (by rw [List.length_append]; omega) (by omega) (fun c hc => by rcases List.mem_append.1 hc with hc | hc; exact hl c hc; exact hl2 c hc))
      have c2 := Lib.hid (fun w' (u : Up w w') => H.list A n d a w' (h.up u) (hr.up u) hn (by omega) hl)
      have c3 := Lib.hid (fun w' (u : Up w w') => H.list B m e b w' (h.up u) (hr2.up u) hm (by omega) hl2)
      rw [List.flatMap_append] at c1
      have hF1 : (a.flatMap full).length ≤ 8000 := by omega
      have hG1 : (b.flatMap full).length ≤ 8000 := by omega
      clear H hr hr2 hn hm hl hl2 hap1 hap2 hrd1 hown1 hown2 hFa hFb hu2
      generalize a.flatMap full = F at *
      generalize b.flatMap full = G at *
      go_enter Tryd.func6, Tryd.ntmps6
      have tok : True := trivial
      go_wp2_with (first | (at_builtin; have _t := tok; refine wpList_app rfl _ _ _ rfl rfl rfl HA1.out ?_; clear tok) | (at_builtin; refine wpList_app rfl _ _ _ rfl rfl rfl HA2.out ?_))
      refine c1.out.mono ?_
      rintro e w3 ⟨X, dx, rfl, hO, hu3⟩
      have hu03 := hu02.trans hu3
      have HO := Lib.hid hO
      have hE := own_empty w3 22
      have uE : Up w3 (w3.alloc (.cells #[] 22)) := (Up.refl w3).alloc _
      clear hO c1 HA1 HA2
      go_wp2_with fail
      refine (c2.out _ (hu03.trans uE)).mono ?_
      rintro e w4 ⟨Y, dy, rfl, hO4, hu4⟩
      obtain ⟨A5, d5, w5, hap5, hown5, hu5⟩ := app_us (xs := []) (own_up hE hu4) (own_read hO4) rfl (by omega) (Nat.le_trans uE.size hu4.size)
      have hu35 := hu5 w3 rfl (uE.trans hu4)
      rw [Nat.zero_add, List.nil_append] at hown5
      rw [Nat.zero_add] at hap5
      have HA5 := Lib.hid hap5
      have HO5 := Lib.hid hown5
      clear hO4 hap5 hown5 hE hu5
      go_wp2_with (at_builtin; refine wpList_app rfl _ _ _ rfl rfl rfl HA5.out ?_)
      refine (c3.out _ (hu03.trans hu35)).mono ?_
      rintro e w6 ⟨Z, dz, rfl, hO6, hu6⟩
      obtain ⟨A7, d7, w7, hap7, hown7, hu7⟩ := app_us (own_up HO5.out hu6) (own_read hO6) rfl (by omega) (Nat.le_trans hu35.size hu6.size)
      have hu37 := hu7 w3 rfl (hu35.trans hu6)
      have HA7 := Lib.hid hap7
      have hs := same_gen X A7 dx d7 (F.length + G.length) (F.length + G.length) (F ++ G) (F ++ G) w7 (by have := own_read (own_up HO.out hu37); exact this) (own_read hown7) (by rw [List.length_append]) (by rw [List.length_append])
      rw [decide_eq_true (show F ++ G = F ++ G from rfl)] at hs
      have HS := Lib.hid hs
      clear hO6 hap7 hown7 hu7 hs HO HO5 c2 c3
      go_wp2_with (at_builtin; refine wpList_app rfl _ _ _ rfl rfl rfl HA7.out ?_)
      refine HS.out.mono ?_
      rintro e w8 ⟨rfl, hu8⟩
      have hu08 := (hu03.trans hu37).trans hu8
      go_wp2_with fail
      refine (c4.out _ (h.up hu08)).mono ?_
      rintro e w9 ⟨rfl, hu9⟩
      go_wp2_with fail
      go_ret
      exact ⟨rfl, hu08.trans hu9⟩

set_option maxRecDepth 100000 in
set_option maxHeartbeats 800000 in
theorem hangul_of5 (H : DecompOk) (n : Nat) (hn : n < 65536) (w : World) (h : HRows w) : Calls Tryd.prog 7 #[.int .u16 (n : Int)] w fun e w' => e = .returned (.bool true) ∧ Up w w' := by
  have c4 := Lib.hid (fun w h => awake_5 H w h)
  have hc0 : 44032 + n % 11172 ≤ 55203 := by have := Nat.mod_lt n (show 0 < 11172 by decide); omega
  have hs : isS (44032 + n % 11172) = true := (isS_iff _).2 ⟨by omega, hc0⟩
  have ec : ((44032 + n % 11172 : Nat) : Int) = 44032 + (n : Int) % 11172 := by omega
  have c1 := fun w h => H.full (44032 + n % 11172) w h (by omega)
  rw [full_S hs, ec] at c1
  have j1 := join_spl hs
  have c2 := join_prog (splL (44032 + n % 11172)) (splV (44032 + n % 11172))
  rw [j1.1, j1.2] at c2
  by_cases ht : splT (44032 + n % 11172) = 0
  · rw [if_pos ht] at c1
    have hp := put_spl hs
    rw [ht] at hp
    rw [hp, ec] at c2
    have C1 := Lib.hid c1
    clear H hs ec c1 j1 hp ht
    generalize splL (44032 + n % 11172) = x at *
    generalize splV (44032 + n % 11172) = y at *
    go_enter Tryd.func7, Tryd.ntmps7
    go_wp2_with fail
    refine (C1.out _ h).mono ?_
    rintro e w1 ⟨A, d, rfl, hO, hu⟩
    obtain ⟨g, rfl, hg1, hg2⟩ := own_addr hO (by simp)
    have k0 : w1.cell? ⟨g, 0, none⟩ = some (.int .u32 (x : Int)) := hO.cellAt 0 (by simp)
    have k1 : w1.cell? ⟨g, 1, none⟩ = some (.int .u32 (y : Int)) := hO.cellAt 1 (by simp)
    clear hO
    go_wp2_with fail
    go_quiet ((go_at_call 15; first | exact quiet_one (c2 _ ((h.up hu).drewN _)) | exact quiet_add (c2 _ ((h.up hu).drewN _))))
    go_wp2_with fail
    refine (c4.out _ ((h.up hu).drewN _)).mono ?_
    rintro e w5 ⟨rfl, hu5⟩
    go_wp2_with fail
    go_ret
    exact ⟨rfl, (hu.drewN _).trans hu5⟩
  · rw [if_neg ht] at c1
    have j3 := join_spl3 hs ht
    have c3 := join_prog (putC (splL (44032 + n % 11172)) (splV (44032 + n % 11172)) 0) (splT (44032 + n % 11172))
    rw [j3.1, j3.2, ec] at c3
    have C1 := Lib.hid c1
    clear H hs ec c1 j1 j3 ht
    generalize putC (splL (44032 + n % 11172)) (splV (44032 + n % 11172)) 0 = p at *
    generalize splL (44032 + n % 11172) = x at *
    generalize splV (44032 + n % 11172) = y at *
    generalize splT (44032 + n % 11172) = z at *
    go_enter Tryd.func7, Tryd.ntmps7
    go_wp2_with fail
    refine (C1.out _ h).mono ?_
    rintro e w1 ⟨A, d, rfl, hO, hu⟩
    obtain ⟨g, rfl, hg1, hg2⟩ := own_addr hO (by simp)
    have k0 : w1.cell? ⟨g, 0, none⟩ = some (.int .u32 (x : Int)) := hO.cellAt 0 (by simp)
    have k1 : w1.cell? ⟨g, 1, none⟩ = some (.int .u32 (y : Int)) := hO.cellAt 1 (by simp)
    have k2 : w1.cell? ⟨g, 2, none⟩ = some (.int .u32 (z : Int)) := hO.cellAt 2 (by simp)
    clear hO
    go_wp2_with fail
    go_quiet ((go_at_call 15; first | exact quiet_one (c2 _ ((h.up hu).drewN _)) | exact quiet_add (c2 _ ((h.up hu).drewN _))))
    go_wp2_with fail
    refine (c3 _ ((h.up hu).drewN _)).mono ?_
    rintro e w2 ⟨rfl, n2, rfl⟩
    go_wp2_with fail
    refine (c4.out _ ((h.up hu).drewN _)).mono ?_
    rintro e w5 ⟨rfl, hu5⟩
    go_wp2_with fail
    go_ret
    exact ⟨rfl, (hu.drewN _).trans hu5⟩

end Go.Proofs.YthdhlcafomhdbaaDoor
