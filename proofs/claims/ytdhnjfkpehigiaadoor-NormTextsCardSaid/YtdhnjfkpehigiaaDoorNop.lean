/- The statements of stage 8: marks that change places. -/
import Derived.Test.YtdhnjfkpehigiaaDoorNon
import Derived.Test.YtdhnjfkpehigiaaDoorOrv
import Derived.Test.YtdhnjfkpehigiaaDoorUpo
namespace Go.Proofs.YtdhnjfkpehigiaaDoor
open Go.RowKit Go.Proofs.YtdhnjfkpehigiaaDoor.Ordr Go.Proofs.YtdhnjfkpehigiaaDoor.Cmpr

set_option maxRecDepth 100000 in
set_option maxHeartbeats 1600000 in
theorem marks_of8 (H : NormOk) (A : Option Addr) (n d a : Nat) (ha : a < 256) (l : List Nat) (w : World) (h : HRows w) (hr : Rd w A d (us l)) (hn : n = l.length) (hl : ∀ c ∈ l, c < 4294967296) :
    Calls Tryd.prog 11 #[.slice A n d, .int .u8 (a : Int)] w fun e w' => e = .returned (.bool true) ∧ Up w w' := by
  have c4 := Lib.hid (fun w h => awake_8 H w h)
  by_cases hb : 200 < n
  · clear H hr hn hl
    go_enter Tryd.func11, Tryd.ntmps11
    go_wp2_with fail
    refine (c4.out _ h).mono ?_
    rintro e w1 ⟨rfl, hu⟩
    go_wp2_with fail
    go_ret
    exact ⟨rfl, hu⟩
  by_cases hb2 : n < 2
  · clear H hr hn hl
    go_enter Tryd.func11, Tryd.ntmps11
    go_wp2_with fail
    refine (c4.out _ h).mono ?_
    rintro e w1 ⟨rfl, hu⟩
    go_wp2_with fail
    go_ret
    exact ⟨rfl, hu⟩
  obtain ⟨q, rfl⟩ : ∃ q, n = q + 2 := ⟨n - 2, by omega⟩
  have Hn := Lib.hid hn
  have R0 := Lib.hid hr
  have hf := hr.fit
  rw [us_len, ← hn] at hf
  clear hn hr
  obtain ⟨i, hi, he⟩ : ∃ i, i < q + 1 ∧ (a : Int) % ((q : Int) + 2 - 1) = (i : Int) := by
    refine ⟨a % (q + 1), Nat.mod_lt _ (by omega), ?_⟩
    rw [show ((q : Int) + 2 - 1) = ((q + 1 : Nat) : Int) from by omega]
    rfl
  obtain ⟨P, x, y, Q, rfl, hP⟩ : ∃ P x y Q, l = P ++ x :: y :: Q ∧ P.length = i := by
    have h1 : i < l.length := by rw [← Hn.out]; omega
    have h2 : i + 1 < l.length := by rw [← Hn.out]; omega
    exact ⟨l.take i, l[i], l[i + 1], l.drop (i + 2), by rw [← List.drop_eq_getElem_cons h2, ← List.drop_eq_getElem_cons h1, List.take_append_drop], by rw [List.length_take]; omega⟩
  obtain ⟨b0, rfl, _⟩ := R0.out.ad (by omega)
  have hxv := Lib.hid (fun w' (u : Up w w') => show w'.cell? (b0.add i) = some (.int .u32 (x : Int)) from (R0.out.up u).cell b0 rfl i _ (by rw [← hP]; exact us_mid _ _ x))
  have hyv := Lib.hid (fun w' (u : Up w w') => show w'.cell? ⟨b0.block, b0.off + (i + 1), none⟩ = some (.int .u32 (y : Int)) from (R0.out.up u).cell b0 rfl (i + 1) _ (by
    rw [show P ++ x :: y :: Q = (P ++ [x]) ++ y :: Q from by simp, show i + 1 = (P ++ [x]).length from by simp [hP]]; exact us_mid _ _ y))
  have hl2 : ∀ c ∈ P ++ y :: x :: Q, c < 4294967296 := fun c hc => hl c (by
    simp only [List.mem_append, List.mem_cons] at hc ⊢
    rcases hc with h | h | h | h
    · exact .inl h
    · exact .inr (.inr (.inl h))
    · exact .inr (.inl h)
    · exact .inr (.inr (.inr h)))
  have hn2 : q + 2 = (P ++ y :: x :: Q).length := by have := Hn.out; simp at this ⊢; omega
  have kx := Lib.hid (class_prog x)
  have ky := Lib.hid (class_prog y)
  have dx := Lib.hid (decomp_prog x)
  have dy := Lib.hid (decomp_prog y)
  have a1 := Lib.hid (fun w' (u : Up w w') => H.nfd (some b0) (q + 2) d (P ++ x :: y :: Q) w' (h.up u) (R0.out.up u) Hn.out (by omega) hl)
  have a2 := Lib.hid (fun w' (u : Up w w') => H.nfc (some b0) (q + 2) d (P ++ x :: y :: Q) w' (h.up u) (R0.out.up u) Hn.out (by omega) hl)
  have b1 := fun B e w' (u : Up w w') (hr : Rd w' B e (us (P ++ y :: x :: Q))) => H.nfd B (q + 2) e (P ++ y :: x :: Q) w' (h.up u) hr hn2 (by omega) hl2
  have b2 := fun B e w' (u : Up w w') (hr : Rd w' B e (us (P ++ y :: x :: Q))) => H.nfc B (q + 2) e (P ++ y :: x :: Q) w' (h.up u) hr hn2 (by omega) hl2
  have hsame : clsOf x ≠ 0 → clsOf y ≠ 0 → clsOf x ≠ clsOf y → decOk x = false → decOk y = false → nfdL (P ++ y :: x :: Q) = nfdL (P ++ x :: y :: Q) ∧ nfcL (P ++ y :: x :: Q) = nfcL (P ++ x :: y :: Q) := by
    intro h1 h2 h3 h4 h5
    have fx : ∀ z, clsOf z ≠ 0 → decOk z = false → full z = [z] := fun z hz hd => full_no (by rw [Bool.eq_false_iff]; exact fun hs => hz (cls_S hs)) (Decidable.byContradiction fun hr => by rw [(decOk_iff z).2 hr] at hd; exact Bool.noConfusion hd)
    have e1 : nfdL (P ++ y :: x :: Q) = nfdL (P ++ x :: y :: Q) := (Nrmr.nfd_swap clsOf P Q (fx x h1 h4) (fx y h2 h5) h1 h2 h3).symm
    exact ⟨e1, by rw [nfcL_eq, nfcL_eq, e1]⟩
  clear H hl hl2 hn2
  generalize clsOf x = cx at *
  generalize clsOf y = cy at *
  generalize decOk x = ox at *
  generalize decOk y = oy at *
  generalize decA x = x1 at *
  generalize decB x = x2 at *
  generalize decA y = y1 at *
  generalize decB y = y2 at *
  go_enter Tryd.func11, Tryd.ntmps11
  go_wp2_with fail
  rw [he]
  clear he
  have hi2 : i < q + 2 := by omega
  have hi3 : i + 1 < q + 2 := by omega
  have hi4 : (i : Int) < (q : Int) + 2 := by omega
  have hi5 : (i : Int) + 1 < (q : Int) + 2 := by omega
  have hwr : IntKind.i64.wrap ((i : Int) + 1) = (i : Int) + 1 := IntWalk.i64_in _ (by omega)
  have hnw : ((i : Int) + 1).toNat = i + 1 := by omega
  have hge : 0 ≤ (i : Int) + 1 := by omega
  refine wp_region_pi [(0, false), (1, false), (2, false), (3, false), (5, false), (6, false), (7, false), (8, false), (9, false), (4, true), (10, true), (11, false), (12, false)] (by kernel_rfl) (by kernel_rfl) (fun _ _ d _ _ h => by cases d <;> exact h) ?_
  with_reducible apply pi_take
  focus exact rfl
  focus exact rfl
  focus (intro w' hu; have hcx := hxv.out w' (Up.of_drew hu); have hcy := hyv.out w' (Up.of_drew hu); go_simp; try with_reducible rfl; done)
  dsimp only [Act.put]; simp only [List.setIfInBounds_toArray, List.set_cons_succ, List.set_cons_zero]
  with_reducible apply pi_take
  focus exact rfl
  focus exact rfl
  focus (intro w' hu; have hcx := hxv.out w' (Up.of_drew hu); have hcy := hyv.out w' (Up.of_drew hu); go_simp; try with_reducible rfl; done)
  dsimp only [Act.put]; simp only [List.setIfInBounds_toArray, List.set_cons_succ, List.set_cons_zero]
  with_reducible apply pi_take
  focus exact rfl
  focus exact rfl
  focus (intro w' hu; have hcx := hxv.out w' (Up.of_drew hu); have hcy := hyv.out w' (Up.of_drew hu); go_simp; try with_reducible rfl; done)
  dsimp only [Act.put]; simp only [List.setIfInBounds_toArray, List.set_cons_succ, List.set_cons_zero]
  with_reducible apply pi_take
  focus exact rfl
  focus exact rfl
  focus (intro w' hu; have hcx := hxv.out w' (Up.of_drew hu); have hcy := hyv.out w' (Up.of_drew hu); go_simp; try with_reducible rfl; done)
  dsimp only [Act.put]; simp only [List.setIfInBounds_toArray, List.set_cons_succ, List.set_cons_zero]
  with_reducible apply pi_take
  focus exact rfl
  focus exact rfl
  focus (intro w' hu; have hcx := hxv.out w' (Up.of_drew hu); have hcy := hyv.out w' (Up.of_drew hu); go_simp; try with_reducible rfl; done)
  dsimp only [Act.put]; simp only [List.setIfInBounds_toArray, List.set_cons_succ, List.set_cons_zero]
  with_reducible apply pi_take
  focus exact rfl
  focus exact rfl
  focus (intro w' hu; have hcx := hxv.out w' (Up.of_drew hu); have hcy := hyv.out w' (Up.of_drew hu); go_simp; try with_reducible rfl; done)
  dsimp only [Act.put]; simp only [List.setIfInBounds_toArray, List.set_cons_succ, List.set_cons_zero]
  with_reducible apply pi_take
  focus exact rfl
  focus exact rfl
  focus (intro w' hu; have hcx := hxv.out w' (Up.of_drew hu); have hcy := hyv.out w' (Up.of_drew hu); go_simp; try with_reducible rfl; done)
  dsimp only [Act.put]; simp only [List.setIfInBounds_toArray, List.set_cons_succ, List.set_cons_zero]
  with_reducible apply pi_take
  focus exact rfl
  focus exact rfl
  focus (intro w' hu; have hcx := hxv.out w' (Up.of_drew hu); have hcy := hyv.out w' (Up.of_drew hu); go_simp; try with_reducible rfl; done)
  dsimp only [Act.put]; simp only [List.setIfInBounds_toArray, List.set_cons_succ, List.set_cons_zero]
  with_reducible apply pi_take
  focus exact rfl
  focus exact rfl
  focus (intro w' hu; have hcx := hxv.out w' (Up.of_drew hu); have hcy := hyv.out w' (Up.of_drew hu); go_simp; try with_reducible rfl; done)
  dsimp only [Act.put]; simp only [List.setIfInBounds_toArray, List.set_cons_succ, List.set_cons_zero]
  refine pi_make rfl rfl (fun K hK => ?_)
  go_simp
  refine (kx.out _).mono ?_
  rintro e w1 ⟨rfl, hu1⟩
  refine hK.out _ _ hu1 ?_
  clear hK K
  refine pi_make rfl rfl (fun K hK => ?_)
  go_simp
  refine (ky.out _).mono ?_
  rintro e w2 ⟨rfl, hu2⟩
  refine hK.out _ _ hu2 ?_
  clear hK K
  iterate 2 (((with_reducible apply pi_take); (focus exact rfl); (focus exact rfl); (focus (intro w' hu; go_simp; try with_reducible rfl; done))); (dsimp only [Act.put]; simp only [List.setIfInBounds_toArray, List.set_cons_succ, List.set_cons_zero]))
  refine pi_done ?_
  have hu02 : Up w w2 := (Up.of_drew hu1).trans hu2
  clear kx ky hu1 hu2
  by_cases hx0 : cx = 0
  · have hq1 : ((cx : Int) == 0) = true := by simp [hx0]
    go_wp2_with fail
    refine (c4.out _ (h.up hu02)).mono ?_
    rintro e w3 ⟨rfl, hu3⟩
    go_wp2_with fail
    go_ret
    exact ⟨rfl, hu02.trans hu3⟩
  have hq1 : ((cx : Int) == 0) = false := by simp; omega
  by_cases hy0 : cy = 0
  · have hq2 : ((cy : Int) == 0) = true := by simp [hy0]
    go_wp2_with fail
    refine (c4.out _ (h.up hu02)).mono ?_
    rintro e w3 ⟨rfl, hu3⟩
    go_wp2_with fail
    go_ret
    exact ⟨rfl, hu02.trans hu3⟩
  have hq2 : ((cy : Int) == 0) = false := by simp; omega
  by_cases hxy : cx = cy
  · have hq3 : ((cx : Int) == (cy : Int)) = true := by simp [hxy]
    go_wp2_with fail
    refine (c4.out _ (h.up hu02)).mono ?_
    rintro e w3 ⟨rfl, hu3⟩
    go_wp2_with fail
    go_ret
    exact ⟨rfl, hu02.trans hu3⟩
  have hq3 : ((cx : Int) == (cy : Int)) = false := by simp; omega
  have hs2 := Lib.hid (hsame hx0 hy0 hxy)
  clear hsame hx0 hy0 hxy
  obtain ⟨B, d3, w3, hap, hrd3, hu3, hown3⟩ := elU.copy (m := q + 2) w2 22 (R0.out.up hu02) (by rw [us_len]; exact Hn.out) (one_us _) (by omega) (by omega)
  obtain ⟨g, rfl, hg1, hg2⟩ := own_addr hown3 (by omega)
  obtain ⟨-, m1, m2, m3, m4⟩ := neigh (q := i) hown3 hP
  have HSw := Lib.hid (swap_us hown3)
  rw [hP] at HSw
  have HA := Lib.hid hap
  have hu03 := hu02.trans hu3
  have hgw : w.heap.size ≤ g := Nat.le_trans hu02.size hg1
  clear hap hrd3 hown3
  go_wp2_with (at_builtin; refine wpList_app rfl _ _ _ rfl rfl rfl HA.out ?_)
  go_region
  have huq : Up w ((w3.setCell ⟨g, i, none⟩ (.int .u32 (y : Int))).setCell ⟨g, i + 1, none⟩ (.int .u32 (x : Int))).drew := ((hu03.setCell hgw _ _).setCell hgw _ _).drew
  have HX := Lib.hid (own_up HSw.out ((Up.refl _).drew))
  clear HSw HA m1 m2 m3 m4 hu03 hu02 hu3
  revert huq HX
  generalize ((w3.setCell ⟨g, i, none⟩ (.int .u32 (y : Int))).setCell ⟨g, i + 1, none⟩ (.int .u32 (x : Int))).drew = w4
  intro huq HX
  have hcx := hxv.out w4 huq
  go_wp2_with fail
  refine (dx.out _).mono ?_
  rintro e w5 ⟨rfl, hu5⟩
  have huq5 := huq.trans hu5
  have HX5 := Lib.hid (own_up HX.out hu5)
  have hcy := hyv.out w5 huq5
  clear hcx huq hu5 HX dx
  go_wp2_with fail
  refine (dy.out _).mono ?_
  rintro e w6 ⟨rfl, hu6⟩
  have huq6 := huq5.trans hu6
  have HX6 := Lib.hid (own_up HX5.out hu6)
  clear hcy huq5 hu6 HX5 dy hxv hyv
  cases ox
  · cases oy
    · obtain ⟨es1, es2⟩ := hs2.out rfl rfl
      rw [es1] at b1
      rw [es2] at b2
      have B1 := Lib.hid b1
      have B2 := Lib.hid b2
      have hsm := Lib.hid (fun (M : List Nat) B1 B2 e1 e2 w' (h1 : Rd w' B1 e1 (us M)) (h2 : Rd w' B2 e2 (us M)) => show Calls Tryd.prog 18 #[.slice B1 M.length e1, .slice B2 M.length e2] w' fun e w'' => e = .returned (.bool true) ∧ Up w' w'' from by
        have hs := same_gen B1 B2 e1 e2 M.length M.length M M w' h1 h2 rfl rfl
        rwa [decide_eq_true (show M = M from rfl)] at hs)
      clear b1 b2 hs2 es1 es2
      generalize nfdL (P ++ x :: y :: Q) = D at *
      generalize nfcL (P ++ x :: y :: Q) = C at *
      go_wp2_with fail
      refine (a1.out w6 huq6).mono ?_
      rintro e w7 ⟨F1, e1, rfl, hO1, hu7⟩
      have O1 := Lib.hid hO1
      have huq7 := huq6.trans hu7
      have HX7 := Lib.hid (own_up HX6.out hu7)
      clear hO1 hu7 huq6 a1 HX6
      go_wp2_with fail
      refine (B1.out _ _ w7 huq7 (own_read HX7.out)).mono ?_
      rintro e w8 ⟨F2, e2, rfl, hO2, hu8⟩
      have S := Lib.hid (hsm.out D F1 F2 e1 e2 w8 (own_read (own_up O1.out hu8)) (own_read hO2))
      have huq8 := huq7.trans hu8
      have HX8 := Lib.hid (own_up HX7.out hu8)
      clear hO2 O1 hu8 huq7 B1 HX7
      go_wp2_with fail
      refine S.out.mono ?_
      rintro e w9 ⟨rfl, hu9⟩
      have huq9 := huq8.trans hu9
      have HX9 := Lib.hid (own_up HX8.out hu9)
      clear S hu9 huq8 HX8
      go_wp2_with fail
      refine (a2.out w9 huq9).mono ?_
      rintro e w10 ⟨F3, e3, rfl, hO3, hu10⟩
      have O3 := Lib.hid hO3
      have huq10 := huq9.trans hu10
      have HX10 := Lib.hid (own_up HX9.out hu10)
      clear hO3 hu10 huq9 a2 HX9
      go_wp2_with fail
      refine (B2.out _ _ w10 huq10 (own_read HX10.out)).mono ?_
      rintro e w11 ⟨F4, e4, rfl, hO4, hu11⟩
      have S := Lib.hid (hsm.out C F3 F4 e3 e4 w11 (own_read (own_up O3.out hu11)) (own_read hO4))
      have huq11 := huq10.trans hu11
      clear hO4 O3 hu11 huq10 B2 HX10
      go_wp2_with fail
      refine S.out.mono ?_
      rintro e w12 ⟨rfl, hu12⟩
      have huq12 := huq11.trans hu12
      clear S hu12 huq11
      go_wp2_with fail
      refine (c4.out _ (h.up huq12)).mono ?_
      rintro e w13 ⟨rfl, hu13⟩
      go_wp2_with fail
      go_ret
      exact ⟨rfl, huq12.trans hu13⟩
    · clear b1 b2 a1 a2 hs2
      go_wp2_with fail
      refine (c4.out _ (h.up huq6)).mono ?_
      rintro e w7 ⟨rfl, hu7⟩
      go_wp2_with fail
      go_ret
      exact ⟨rfl, huq6.trans hu7⟩
  · clear b1 b2 a1 a2 hs2
    go_wp2_with fail
    refine (c4.out _ (h.up huq6)).mono ?_
    rintro e w7 ⟨rfl, hu7⟩
    go_wp2_with fail
    go_ret
    exact ⟨rfl, huq6.trans hu7⟩

end Go.Proofs.YtdhnjfkpehigiaaDoor
