/- The statements of stage 8: parts. -/
import Derived.Test.YtdhnjfkpehigiaaDoorNol
import Derived.Test.YtdhnjfkpehigiaaDoorPif
namespace Go.Proofs.YtdhnjfkpehigiaaDoor
open Go.RowKit Go.Proofs.YtdhnjfkpehigiaaDoor.Ordr Go.Proofs.YtdhnjfkpehigiaaDoor.Cmpr

theorem safeOf_le (l : List Nat) : safeOf l ≤ l.length := by
  have := safeF_le l (l.length - 1)
  unfold safeOf; omega
theorem nfcL_nil : nfcL [] = [] := List.eq_nil_of_length_eq_zero (by have := nfcL_len []; simpa using this)
theorem parts8 (l : List Nat) : nfcL (l.take (safeOf l)) ++ nfcL (l.drop (safeOf l)) = nfcL l := by
  by_cases hz : safeOf l = 0
  · rw [hz, List.take_zero, List.drop_zero, nfcL_nil, List.nil_append]
  · have hlt : safeOf l < l.length := by
      have := safeF_le l (l.length - 1)
      have h2 : safeOf l ≤ l.length - 1 := this
      by_cases h0 : l.length = 0
      · omega
      · omega
    have hs : startOf (l[safeOf l]?.getD 0) = true := safeF_start l (l.length - 1) (by unfold safeOf at hz; omega)
    rw [List.getElem?_eq_getElem hlt] at hs
    have hd : l.drop (safeOf l) = l[safeOf l] :: l.drop (safeOf l + 1) := List.drop_eq_getElem_cons hlt
    have e : l = l.take (safeOf l) ++ l[safeOf l] :: l.drop (safeOf l + 1) := by rw [← hd, List.take_append_drop]
    have := Nrmr.nfc_parts clsOf twoO good (l.take (safeOf l)) (l[safeOf l]) (l.drop (safeOf l + 1)) (start_full hs)
    rw [← e] at this
    rw [hd]
    exact this.symm

theorem uUs : Tryd.prog.underlying 22 = some (.slice (Tryd.prog.elem 22)) := by kernel_rfl
theorem szU (w : World) : (sizeOf (Tryd.prog.elem 22)).run Tryd.prog w = .ok 1 w := by kernel_rfl
/-- 'l[k:]' of numbers. -/
theorem Rd.tailU {w : World} {A : Option Addr} {c : Nat} {l : List Nat} (h : Rd w A c (us l)) (n k : Nat) (hn : n = l.length) (hk : k ≤ n) :
    ∃ A', (∀ w', (Instr.slice 22 (.slice A n c) (some (.int .i64 k)) none none).run Tryd.prog w' = .ok (.slice A' (n - k) (c - k)) w') ∧ Rd w A' (c - k) (us (l.drop k)) := by
  have hf := h.fit
  rw [us_len] at hf
  refine ⟨if c = k then A else A.map (·.add (k * 1)), fun w' => ?_, ?_⟩
  · rw [run_slice_l w' 22 A n c uUs .i64 k (by omega) (by omega), szU]
    simp [sliced]
  · have := h.sub (lo := k) (hi := n) (m := c) hk (by rw [us_len]; omega) (by omega) (by omega)
    rw [us_drop, us_take, List.take_of_length_le (by rw [List.length_drop]; omega)] at this
    simpa using this
/-- 'l[:k]' of numbers. -/
theorem Rd.headU {w : World} {A : Option Addr} {c : Nat} {l : List Nat} (h : Rd w A c (us l)) (n k : Nat) (hn : n = l.length) (hk : k ≤ n) :
    ∃ A', (∀ w', (Instr.slice 22 (.slice A n c) none (some (.int .i64 k)) none).run Tryd.prog w' = .ok (.slice A' k c) w') ∧ Rd w A' c (us (l.take k)) := by
  have hf := h.fit
  rw [us_len] at hf
  refine ⟨if c = 0 then A else A.map (·.add (0 * 1)), fun w' => ?_, ?_⟩
  · rw [run_slice_h w' 22 A n c uUs .i64 k (by omega) (by omega), szU]
    simp [sliced]
  · have := h.sub (lo := 0) (hi := k) (m := c) (by omega) (by rw [us_len]; omega) (by omega) (by omega)
    rw [List.drop_zero, us_take] at this
    simpa using this

set_option maxRecDepth 100000 in
set_option maxHeartbeats 1600000 in
theorem parts_of8 (H : NormOk) (A : Option Addr) (n d : Nat) (l : List Nat) (w : World) (h : HRows w) (hr : Rd w A d (us l)) (hn : n = l.length) (hl : ∀ c ∈ l, c < 4294967296) :
    Calls Tryd.prog 8 #[.slice A n d] w fun e w' => e = .returned (.bool true) ∧ Up w w' := by
  have c4 := Lib.hid (fun w h => awake_8 H w h)
  by_cases hb : 300 < n
  · clear H hr hn hl
    go_enter Tryd.func8, Tryd.ntmps8
    go_wp2_with fail
    refine (c4.out _ h).mono ?_
    rintro e w1 ⟨rfl, hu⟩
    go_wp2_with fail
    go_ret
    exact ⟨rfl, hu⟩
  have c1 := Lib.hid (H.safe A n d l w h hr hn (by omega) hl)
  have hk := safeOf_le l
  have hpt := parts8 l
  rw [← hn] at hk
  generalize safeOf l = k at *
  obtain ⟨A1, hsl1, hr1⟩ := hr.headU n k hn hk
  obtain ⟨A2, hsl2, hr2⟩ := hr.tailU n k hn hk
  have hl1 : k = (l.take k).length := by rw [List.length_take]; omega
  have hl2 : n - k = (l.drop k).length := by rw [List.length_drop]; omega
  have t1 : ∀ c ∈ l.take k, c < 4294967296 := fun c hc => hl c (List.mem_of_mem_take hc)
  have t2 : ∀ c ∈ l.drop k, c < 4294967296 := fun c hc => hl c (List.mem_of_mem_drop hc)
  have c2 := Lib.hid (fun w' (u : Up w w') => H.nfc A1 k d (l.take k) w' (h.up u) (hr1.up u) hl1 (by omega) t1)
  have c3 := Lib.hid (fun w' (u : Up w w') => H.nfc A2 (n - k) (d - k) (l.drop k) w' (h.up u) (hr2.up u) hl2 (by omega) t2)
  have c5 := fun w' (u : Up w w') => H.nfc A n d l w' (h.up u) (hr.up u) hn (by omega) hl
  rw [← hpt] at c5
  have C5 := Lib.hid c5
  have hF := nfcL_len (l.take k)
  have hG := nfcL_len (l.drop k)
  have hF1 : (nfcL (l.take k)).length ≤ 2000 := by omega
  have hG1 : (nfcL (l.drop k)).length ≤ 2000 := by omega
  clear hn hr H hl c5 hpt hr1 hr2 hl1 hl2 t1 t2 hF hG
  generalize nfcL (l.take k) = F at *
  generalize nfcL (l.drop k) = G at *
  go_enter Tryd.func8, Tryd.ntmps8
  go_wp2_with fail
  refine c1.out.mono ?_
  rintro e w1 ⟨rfl, hu1⟩
  clear c1
  go_wp2_with fail
  refine wp_region_fk 0 4 [1, 2, 3, 6, 7, 8] [4, 5, 9, 10, 11] [0, 5, 9, 10, 11] (by kernel_rfl) (by kernel_rfl) (fun _ _ d _ _ h => by cases d <;> exact h) ?_
  iterate 6 (((with_reducible apply fk_take); (focus exact rfl); (focus exact rfl); (focus (intro w'; go_simp; try with_reducible rfl; done))); (dsimp only [Act.put]; simp only [List.setIfInBounds_toArray, List.set_cons_succ, List.set_cons_zero]))
  have hud : Up w w1.drew := hu1.drew
  clear hu1 hsl1 hsl2
  generalize w1.drew = wd at *
  refine fk_fork rfl rfl rfl rfl (fun K hK => ?_) (fun K hK => ?_)
  · go_simp
    refine hK.out _ _ ?_
    clear hK K
    have uE : Up wd (wd.alloc (.cells #[] 27)) := (Up.refl wd).alloc _
    refine sq_make rfl rfl (fun K hK => ?_)
    go_simp
    refine (c2.out _ (hud.trans uE)).mono ?_
    rintro e w2 ⟨B2, d2, rfl, hO2, hu2⟩
    obtain ⟨A5, d5, w5, hap5, hown5, hu5⟩ := app_us (xs := []) (own_up (own_empty wd 27) hu2) (own_read hO2) rfl (by omega) (Nat.le_trans uE.size hu2.size)
    have hu5d : Up wd w5 := hu5 wd rfl (uE.trans hu2)
    rw [Nat.zero_add, List.nil_append] at hown5
    rw [Nat.zero_add] at hap5
    have HA5 := Lib.hid hap5
    have HO5 := Lib.hid hown5
    clear hap5 hown5 hu5 hO2 hu2 uE c2
    refine hK.out _ _ ?_
    clear hK K
    refine sq_make rfl rfl (fun K hK => ?_)
    refine wp_app _ _ _ rfl rfl rfl HA5.out (hK.out _ _ ?_)
    clear hK K HA5
    dsimp only [Act.put]; simp only [List.setIfInBounds_toArray, List.set_cons_succ, List.set_cons_zero]
    refine sq_make rfl rfl (fun K hK => ?_)
    go_simp
    refine (c3.out _ (hud.trans hu5d)).mono ?_
    rintro e w6 ⟨B6, d6, rfl, hO6, hu6⟩
    obtain ⟨A7, d7, w7, hap7, hown7, hu7⟩ := app_us (own_up HO5.out hu6) (own_read hO6) rfl (by omega) (Nat.le_trans hu5d.size hu6.size)
    have hu7w : Up w w7 := hud.trans (hu7 wd rfl (hu5d.trans hu6))
    have HA7 := Lib.hid hap7
    have HO7 := Lib.hid hown7
    clear hap7 hown7 hu7 hO6 hu6 HO5 hu5d c3 hud
    refine hK.out _ _ ?_
    clear hK K
    refine sq_make rfl rfl (fun K hK => ?_)
    refine wp_app _ _ _ rfl rfl rfl HA7.out (hK.out _ _ ?_)
    clear hK K HA7
    dsimp only [Act.put]; simp only [List.setIfInBounds_toArray, List.set_cons_succ, List.set_cons_zero]
    refine sq_make rfl rfl (fun K hK => ?_)
    go_simp
    refine hK.out _ _ ?_
    clear hK K
    refine sq_done ?_
    go_wp2_with fail
    refine (C5.out w7 hu7w).mono ?_
    rintro e w8 ⟨B8, d8, rfl, hO8, hu8⟩
    have hs := same_gen B8 A7 d8 d7 (F.length + G.length) (F.length + G.length) (F ++ G) (F ++ G) w8 (own_read hO8) (own_read (own_up HO7.out hu8)) (by rw [List.length_append]) (by rw [List.length_append])
    rw [decide_eq_true (show F ++ G = F ++ G from rfl)] at hs
    have HS := Lib.hid hs
    have hu8w := hu7w.trans hu8
    clear hs hO8 HO7 hu8 C5 hu7w
    go_wp2_with fail
    refine HS.out.mono ?_
    rintro e w9 ⟨rfl, hu9⟩
    have hu9w := hu8w.trans hu9
    clear HS hu9 hu8w
    go_wp2_with fail
    refine (c4.out _ (h.up hu9w)).mono ?_
    rintro e w10 ⟨rfl, hu10⟩
    go_wp2_with fail
    go_ret
    exact ⟨rfl, hu9w.trans hu10⟩
  · go_simp
    refine (c2.out _ hud).mono ?_
    rintro e w2 ⟨B2, d2, rfl, hO2, hu2⟩
    have hud2 := hud.trans hu2
    refine hK.out _ _ ?_
    clear hK K hud
    refine sq_make rfl rfl (fun K hK => ?_)
    go_simp
    have uE : Up w2 (w2.alloc (.cells #[] 27)) := (Up.refl w2).alloc _
    obtain ⟨A5, d5, w5, hap5, hown5, hu5⟩ := app_us (xs := []) (own_empty w2 27) (own_read (own_up hO2 uE)) rfl (by omega) uE.size
    have hu5d : Up w2 w5 := hu5 w2 rfl uE
    rw [Nat.zero_add, List.nil_append] at hown5
    rw [Nat.zero_add] at hap5
    have HA5 := Lib.hid hap5
    have HO5 := Lib.hid hown5
    clear hap5 hown5 hu5 hO2 hu2 uE c2
    refine hK.out _ _ ?_
    clear hK K
    refine sq_make rfl rfl (fun K hK => ?_)
    refine wp_app _ _ _ rfl rfl rfl HA5.out (hK.out _ _ ?_)
    clear hK K HA5
    dsimp only [Act.put]; simp only [List.setIfInBounds_toArray, List.set_cons_succ, List.set_cons_zero]
    refine sq_make rfl rfl (fun K hK => ?_)
    go_simp
    refine (c3.out _ (hud2.trans hu5d)).mono ?_
    rintro e w6 ⟨B6, d6, rfl, hO6, hu6⟩
    obtain ⟨A7, d7, w7, hap7, hown7, hu7⟩ := app_us (own_up HO5.out hu6) (own_read hO6) rfl (by omega) (Nat.le_trans hu5d.size hu6.size)
    have hu7w : Up w w7 := hud2.trans (hu7 w2 rfl (hu5d.trans hu6))
    have HA7 := Lib.hid hap7
    have HO7 := Lib.hid hown7
    clear hap7 hown7 hu7 hO6 hu6 HO5 hu5d c3 hud2
    refine hK.out _ _ ?_
    clear hK K
    refine sq_make rfl rfl (fun K hK => ?_)
    refine wp_app _ _ _ rfl rfl rfl HA7.out (hK.out _ _ ?_)
    clear hK K HA7
    dsimp only [Act.put]; simp only [List.setIfInBounds_toArray, List.set_cons_succ, List.set_cons_zero]
    refine sq_make rfl rfl (fun K hK => ?_)
    go_simp
    refine hK.out _ _ ?_
    clear hK K
    refine sq_done ?_
    go_wp2_with fail
    refine (C5.out w7 hu7w).mono ?_
    rintro e w8 ⟨B8, d8, rfl, hO8, hu8⟩
    have hs := same_gen B8 A7 d8 d7 (F.length + G.length) (F.length + G.length) (F ++ G) (F ++ G) w8 (own_read hO8) (own_read (own_up HO7.out hu8)) (by rw [List.length_append]) (by rw [List.length_append])
    rw [decide_eq_true (show F ++ G = F ++ G from rfl)] at hs
    have HS := Lib.hid hs
    have hu8w := hu7w.trans hu8
    clear hs hO8 HO7 hu8 C5 hu7w
    go_wp2_with fail
    refine HS.out.mono ?_
    rintro e w9 ⟨rfl, hu9⟩
    have hu9w := hu8w.trans hu9
    clear HS hu9 hu8w
    go_wp2_with fail
    refine (c4.out _ (h.up hu9w)).mono ?_
    rintro e w10 ⟨rfl, hu10⟩
    go_wp2_with fail
    go_ret
    exact ⟨rfl, hu9w.trans hu10⟩

end Go.Proofs.YtdhnjfkpehigiaaDoor
