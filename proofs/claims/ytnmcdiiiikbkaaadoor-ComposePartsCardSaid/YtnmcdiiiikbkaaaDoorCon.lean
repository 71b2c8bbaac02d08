/- The statements of stage 7: parts; full decompositions. -/
import Derived.Test.YtnmcdiiiikbkaaaDoorCom
import Derived.Test.YtnmcdiiiikbkaaaDoorUpo
namespace Go.Proofs.YtnmcdiiiikbkaaaDoor
open Go.RowKit Go.Proofs.YtnmcdiiiikbkaaaDoor.Ordr Go.Proofs.YtnmcdiiiikbkaaaDoor.Cmpr

set_option maxRecDepth 100000 in
set_option maxHeartbeats 1600000 in
theorem parts_of7 (H7 : ComposeOk) (A B : Option Addr) (n d m e : Nat) (a b : List Nat) (w : World) (h : HRows w) (hr : Rd w A d (us a)) (hr2 : Rd w B e (us b)) (hn : n = a.length) (hm : m = b.length) (hl : ∀ c ∈ a, c < 4294967296) (hl2 : ∀ c ∈ b, c < 4294967296) :
    Calls Tryd.prog 13 #[.slice A n d, .slice B m e] w fun e w' => e = .returned (.bool true) ∧ Up w w' := by
  have c4 := Lib.hid (fun w h => awake_7 H7 w h)
  by_cases hb : 500 < n
  · clear H7 hr hn hl hr2 hm hl2
    go_enter Tryd.func13, Tryd.ntmps13
    go_wp2_with fail
    refine (c4.out _ h).mono ?_
    rintro e w1 ⟨rfl, hu⟩
    go_wp2_with fail
    go_ret
    exact ⟨rfl, hu⟩
  by_cases hb2 : 500 < m
  · clear H7 hr hn hl hr2 hm hl2
    go_enter Tryd.func13, Tryd.ntmps13
    go_wp2_with fail
    refine (c4.out _ h).mono ?_
    rintro e w1 ⟨rfl, hu⟩
    go_wp2_with fail
    go_ret
    exact ⟨rfl, hu⟩
  by_cases hm0 : m = 0
  · subst hm0
    clear H7 hr hn hl hr2 hm hl2
    go_enter Tryd.func13, Tryd.ntmps13
    go_wp2_with fail
    refine (c4.out _ h).mono ?_
    rintro e w1 ⟨rfl, hu⟩
    go_wp2_with fail
    go_ret
    exact ⟨rfl, hu⟩
  obtain ⟨z, t, rfl⟩ : ∃ z t, b = z :: t := by
    cases b with
    | nil => exact absurd hm hm0
    | cons z t => exact ⟨z, t, rfl⟩
  have hme : 0 < e := by have := hr2.fit; rw [us_len, ← hm] at this; omega
  obtain ⟨ab, rfl, _⟩ := hr2.ad hme
  have hcell : w.cell? ⟨ab.block, ab.off, ab.spot⟩ = some (.int .u32 (z : Int)) := hr2.cell ab rfl 0 _ rfl
  have hmz : ((m : Int) == 0) = false := by simp; omega
  have hm1 : 0 < m := by omega
  have cS := Lib.hid (starts_prog z w)
  cases hz : startOf z with
  | false =>
    rw [hz] at cS
    clear H7 hr hn hl hr2 hm hl2 hz hm0
    go_enter Tryd.func13, Tryd.ntmps13
    go_wp2_with fail
    refine cS.out.mono ?_
    rintro e w1 ⟨rfl, hu⟩
    go_wp2_with fail
    refine (c4.out _ (h.up hu)).mono ?_
    rintro e w2 ⟨rfl, hu2⟩
    go_wp2_with fail
    go_ret
    exact ⟨rfl, hu.trans hu2⟩
  | true =>
  rw [hz] at cS
  have hz0 : clsOf z = 0 ∧ ∀ s, twoO s z = none := by
    unfold startOf at hz
    rw [Bool.and_eq_true, decide_eq_true_eq, decide_eq_true_eq] at hz
    obtain ⟨h0, hq⟩ := hz
    refine ⟨h0, two_not ?_⟩
    unfold quickOf at hq
    split at hq
    · omega
    · split at hq
      · omega
      · rename_i h; simpa using h
  have hop := comp_parts clsOf twoO a z t hz0.1 hz0.2
  have hR0 := Lib.hid hr
  have hR2 := Lib.hid hr2
  have cO := Lib.hid (fun w1 (u1 : Up w w1) => by
    obtain ⟨A1, d1, w2, hap1, hrd1, hu1, hown1⟩ := elU.copy (m := n) w1 23 (hr.up u1) (by rw [us_len]; exact hn) (one_us a) (by omega) (by omega)
    obtain ⟨A2, d2, w3, hap2, hown2, hu2⟩ := app_us hown1 ((hr2.up u1).up hu1) hm (by omega) hu1.size
    have c1 := H7.compose A2 (n + m) d2 (a ++ z :: t) w3 (h.up (u1.trans (hu2 w1 rfl hu1))) (own_read hown2) (by rw [List.length_append]; omega) (by omega) (fun c hc => by rcases List.mem_append.1 hc with hc | hc; exact hl c hc; exact hl2 c hc)
    rw [hop] at c1
    exact (⟨A1, d1, w2, A2, d2, w3, hap1, hap2, hu2 w1 rfl hu1, c1⟩ : ∃ A1 d1 w2 A2 d2 w3, (Builtin.append_ #[23, 23] 23 #[.slice (some ⟨w1.heap.size, 0, none⟩) 0 0, .slice A n d]).run Tryd.prog (w1.alloc (.cells #[] 22)) = .ok (.slice A1 n d1) w2 ∧
      (Builtin.append_ #[23, 23] 23 #[.slice A1 n d1, .slice (some ab) m e]).run Tryd.prog w2 = .ok (.slice A2 (n + m) d2) w3 ∧ Up w1 w3 ∧ Calls Tryd.prog 29 #[.slice A2 (n + m) d2] w3 (Gives (comp clsOf twoO a ++ comp clsOf twoO (z :: t)) w3)))
  have c2 := Lib.hid (fun w' (u : Up w w') => H7.compose A n d a w' (h.up u) (hr.up u) hn (by omega) hl)
  have c3 := Lib.hid (fun w' (u : Up w w') => H7.compose (some ab) m e (z :: t) w' (h.up u) (hr2.up u) hm (by omega) hl2)
  have hF1 : (comp clsOf twoO a).length ≤ 8000 := by have := comp_len clsOf twoO a; omega
  have hG1 : (comp clsOf twoO (z :: t)).length ≤ 8000 := by have := comp_len clsOf twoO (z :: t); omega
  clear H7 hr hr2 hn hm hl hl2 hz hz0 hop hm0
  generalize comp clsOf twoO a = F at *
  generalize comp clsOf twoO (z :: t) = G at *
  go_enter Tryd.func13, Tryd.ntmps13
  go_wp2_with fail
  refine cS.out.mono ?_
  rintro e w1 ⟨rfl, hu01⟩
  obtain ⟨A1, d1, w2, A2, d2, w3, hap1, hap2, hu2, c1⟩ := cO.out w1 hu01
  have HA1 := Lib.hid hap1
  have HA2 := Lib.hid hap2
  have C1 := Lib.hid c1
  have hu02 := hu01.trans hu2
  clear cS cO hap1 hap2 c1 hcell
  have tok : True := trivial
  go_wp2_with (first | (at_builtin; have _t := tok; refine wpList_app rfl _ _ _ rfl rfl rfl HA1.out ?_; clear tok) | (at_builtin; refine wpList_app rfl _ _ _ rfl rfl rfl HA2.out ?_))
  refine C1.out.mono ?_
  rintro e w3 ⟨X, dx, rfl, hO, hu3⟩
  have hu03 := hu02.trans hu3
  have HO := Lib.hid hO
  have hE := own_empty w3 22
  have uE : Up w3 (w3.alloc (.cells #[] 22)) := (Up.refl w3).alloc _
  clear hO C1 HA1 HA2
  go_wp2_with fail
  refine (c2.out _ (hu03.trans uE)).mono ?_
  rintro e w4 ⟨Y, dy, rfl, hO4, hu4⟩
  obtain ⟨A5, d5, w5, hap5, hown5, hu5⟩ := app_us (xs := []) (own_up hE hu4) (own_read hO4) rfl (by omega) (Nat.le_trans uE.size hu4.size)
  have hu35 := hu5 w3 rfl (uE.trans hu4)
  rw [Nat.zero_add, List.nil_append] at hown5
  rw [Nat.zero_add] at hap5
  have HA5 := Lib.hid hap5
  have HO5 := Lib.hid hown5
  clear hO4 hap5 hown5 hE hu5
  go_wp2_with (at_builtin; refine wpList_app rfl _ _ _ rfl rfl rfl HA5.out ?_)
  refine (c3.out _ (hu03.trans hu35)).mono ?_
  rintro e w6 ⟨Z, dz, rfl, hO6, hu6⟩
  obtain ⟨A7, d7, w7, hap7, hown7, hu7⟩ := app_us (own_up HO5.out hu6) (own_read hO6) rfl (by omega) (Nat.le_trans hu35.size hu6.size)
  have hu37 := hu7 w3 rfl (hu35.trans hu6)
  have HA7 := Lib.hid hap7
  have hs := same_gen X A7 dx d7 (F.length + G.length) (F.length + G.length) (F ++ G) (F ++ G) w7 (own_read (own_up HO.out hu37)) (own_read hown7) (by rw [List.length_append]) (by rw [List.length_append])
  rw [decide_eq_true (show F ++ G = F ++ G from rfl)] at hs
  have HS := Lib.hid hs
  clear hO6 hap7 hown7 hu7 hs HO HO5 c2 c3
  go_wp2_with (at_builtin; refine wpList_app rfl _ _ _ rfl rfl rfl HA7.out ?_)
  refine HS.out.mono ?_
  rintro e w8 ⟨rfl, hu8⟩
  have hu08 := (hu03.trans hu37).trans hu8
  go_wp2_with fail
  refine (c4.out _ (h.up hu08)).mono ?_
  rintro e w9 ⟨rfl, hu9⟩
  go_wp2_with fail
  go_ret
  exact ⟨rfl, hu08.trans hu9⟩

set_option maxRecDepth 100000 in
theorem full_of7 (H7 : ComposeOk) (HD : DecompOk) (c : Nat) (hc : c < 4294967296) (w : World) (h : HRows w) : Calls Tryd.prog 14 #[.int .u32 (c : Int)] w fun e w' => e = .returned (.bool true) ∧ Up w w' := by
  have c4 := Lib.hid (fun w h => awake_7 H7 w h)
  have hfl := full_len c
  have hft := full_lt c hc
  have c1 := Lib.hid (HD.full c w h hc)
  have c2 := Lib.hid (fun B e w' (u : Up w w') (hr : Rd w' B e (us (full c))) => H7.compose B (full c).length e (full c) w' (h.up u) hr rfl (by omega) hft)
  have c3 := Lib.hid (composes_prog c)
  have c5 := Lib.hid (fun w' (u : Up w w') => HD.whole c w' (h.up u) hc)
  have hif := comp_full_iff c
  have hS := isS_iff c
  have HS := Lib.hid (fun (M : List Nat) B e w' (hr : Rd w' B e (us M)) => same_gen B (some ⟨w'.heap.size, 0, none⟩) e 1 M.length 1 M [c] (w'.alloc (.cells (us [c]).toArray 22)) (hr.up ((Up.refl w').alloc _)) (own_read (own_lit w' [c] 1 rfl (by omega))) rfl rfl)
  clear H7 HD hft hfl
  generalize hM : comp clsOf twoO (full c) = M at *
  have hq : (full c).length = (full c).length := rfl
  generalize full c = F at *
  clear hM hq
  have hcase : (cmpOf c = true ∧ decide (M = [c]) = true) ∨ (cmpOf c = false ∧ decide (F = [c]) = true ∧ decide (M = [c]) = true) ∨
      (cmpOf c = false ∧ decide (F = [c]) = false ∧ c < 44032 ∧ decide (M = [c]) = false) ∨ (cmpOf c = false ∧ decide (F = [c]) = false ∧ (44032 ≤ c ∧ c ≤ 55203) ∧ decide (M = [c]) = true) ∨
      (cmpOf c = false ∧ decide (F = [c]) = false ∧ (44032 ≤ c ∧ 55203 < c) ∧ decide (M = [c]) = false) := by
    cases h1 : cmpOf c with
    | true => exact .inl ⟨rfl, decide_eq_true (hif.2 (.inl h1))⟩
    | false =>
      right
      by_cases h2 : F = [c]
      · exact .inl ⟨rfl, decide_eq_true h2, decide_eq_true (hif.2 (.inr (.inl h2)))⟩
      · right
        by_cases h3 : c < 44032
        · exact .inl ⟨rfl, decide_eq_false h2, h3, decide_eq_false fun e => by
            rcases hif.1 e with g | g | g
            · rw [h1] at g; exact Bool.noConfusion g
            · exact h2 g
            · have := hS.1 g; omega⟩
        · right
          by_cases h4 : c ≤ 55203
          · exact .inl ⟨rfl, decide_eq_false h2, ⟨by omega, h4⟩, decide_eq_true (hif.2 (.inr (.inr (hS.2 ⟨by omega, h4⟩))))⟩
          · exact .inr ⟨rfl, decide_eq_false h2, ⟨by omega, by omega⟩, decide_eq_false fun e => by
              rcases hif.1 e with g | g | g
              · rw [h1] at g; exact Bool.noConfusion g
              · exact h2 g
              · have := hS.1 g; omega⟩
  clear hif hS
  generalize cmpOf c = cm at *
  generalize decide (F = [c]) = wh at *
  generalize hr : decide (M = [c]) = r at *
  have Hr := Lib.hid hr
  clear hr
  go_enter Tryd.func14, Tryd.ntmps14
  go_wp2_with fail
  refine c1.out.mono ?_
  rintro e w1 ⟨B1, d1, rfl, hO, hu1⟩
  have C2 := Lib.hid (c2.out B1 d1 w1 hu1 (own_read hO))
  clear hO c1 c2
  go_wp2_with fail
  refine C2.out.mono ?_
  rintro e w2 ⟨B2, d2, rfl, hO2, hu2⟩
  have HO2 := Lib.hid hO2
  have hu02 := hu1.trans hu2
  clear hO2 C2 hu1 hu2
  go_wp2_with fail
  refine (c3.out _).mono ?_
  rintro e w3 ⟨rfl, hu3⟩
  have hu03 := hu02.trans hu3
  rcases hcase with ⟨rfl, rfl⟩ | ⟨rfl, rfl, rfl⟩ | ⟨rfl, rfl, g1, rfl⟩ | ⟨rfl, rfl, ⟨g1, g2⟩, rfl⟩ | ⟨rfl, rfl, ⟨g1, g2⟩, rfl⟩
  · have S := Lib.hid (HS.out M B2 d2 w3 (own_read (own_up HO2.out hu3)))
    rw [Hr.out] at S
    go_wp2_with fail
    refine S.out.mono ?_
    rintro e w4 ⟨rfl, hu4⟩
    have hu04 := hu03.trans (((Up.refl w3).alloc _).trans hu4)
    go_wp2_with fail
    refine (c4.out _ (h.up hu04)).mono ?_
    rintro e w5 ⟨rfl, hu5⟩
    go_wp2_with fail
    go_ret
    exact ⟨rfl, hu04.trans hu5⟩
  all_goals
    go_wp2_with fail
    refine (c5.out _ hu03).mono ?_
    rintro e w4 ⟨rfl, hu4⟩
    have S := Lib.hid (HS.out M B2 d2 w4 (own_read (own_up HO2.out (hu3.trans hu4))))
    rw [Hr.out] at S
    go_wp2_with fail
    refine S.out.mono ?_
    rintro e w5 ⟨rfl, hu5⟩
    have hu05 := (hu03.trans hu4).trans (((Up.refl w4).alloc _).trans hu5)
    go_wp2_with fail
    refine (c4.out _ (h.up hu05)).mono ?_
    rintro e w6 ⟨rfl, hu6⟩
    go_wp2_with fail
    go_ret
    refine ⟨?_, hu05.trans hu6⟩
    first | rfl | (have hd : decide ((c : Int) ≤ 55203) = false := decide_eq_false (by omega); simp [hd])

end Go.Proofs.YtnmcdiiiikbkaaaDoor
