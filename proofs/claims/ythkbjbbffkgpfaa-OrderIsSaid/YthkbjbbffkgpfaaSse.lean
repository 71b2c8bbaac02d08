/- slices.SortStableFunc: one element is merged with a run behind it. -/
import Derived.Test.YthkbjbbffkgpfaaSsd
namespace Go.Proofs.Ythkbjbbffkgpfaa
open Go.RowKit Go.Proofs.Ythkbjbbffkgpfaa.Stb
variable {W : World} {g N D : Nat} {P S : List Nat} {c : FuncId} {cb : Value} {cls : Nat → Nat} {r : Nat → Nat → Int}

set_option maxRecDepth 100000 in
set_option maxHeartbeats 1600000 in
theorem merge_left (K : CmpOk c cb W N cls r) (X : List Nat) (x : Nat) (B Z : List Nat) (o len cap a m b : Nat) (w : World) (h : Pat W g N D P S (X ++ x :: (B ++ Z)) w) (ho : o = P.length) (hlen : len = (X ++ x :: (B ++ Z)).length)
    (ha : a = X.length) (hm : m = a + 1) (hb : b = a + 1 + B.length) (hN : N ≤ 4611686018427387904) (hs : srt cls B) :
    Calls Try.prog 32 #[.slice (some ⟨g, o, none⟩) len cap, .int .i64 (a : Int), .int .i64 (m : Int), .int .i64 (b : Int), .func (.func c) #[] #[cb]] w fun e w' => e = .returned (.tuple #[]) ∧ ∃ R, Mg cls [x] B R ∧ Pat W g N D P S (X ++ (R ++ Z)) w' := by
  have hlt := h.lt
  have hlN : P.length + len ≤ N := by rw [hlen]; exact hlt
  have hll : len = a + 1 + B.length + Z.length := by rw [hlen, ha]; simp; omega
  have hoN : o + len ≤ 4611686018427387904 := by omega
  have hbl : b ≤ len := by omega
  have hab : a + 1 ≤ b := by omega
  have hm1 : (m : Int) - (a : Int) = 1 := by omega
  have hma : a + 1 ≤ m := by omega
  have hmb : m ≤ a + 1 := by omega
  have H := Lib.hid h
  have Ho := Lib.hid ho
  have Ha := Lib.hid ha
  have Hb := Lib.hid hb
  have HE := Lib.hid K.enter
  have HC := Lib.hid K.call
  have HL := Lib.hid K.less
  have HS := Lib.hid hs
  clear h ho ha hb hlen hll hlN hlt K hs hm
  go_enter Try.func32, Try.ntmps32
  go_wp2_with fail
  go_loopw [10, 11] (fun i j wr => ∃ (p q : Nat), i = .int .i64 (p : Int) ∧ j = .int .i64 (q : Int) ∧ a + 1 ≤ p ∧ p ≤ q ∧ q ≤ b ∧ Hid (∀ t (ht : t < B.length), a + 1 + t < p → cls B[t] < cls x) ∧ Hid (∀ t (ht : t < B.length), q ≤ a + 1 + t → cls x ≤ cls B[t]) ∧ Hid (Pat W g N D P S (X ++ x :: (B ++ Z)) wr)) (fun i j _ => (intOf j).toNat - (intOf i).toNat)
  case atStart => exact ⟨m, b, rfl, rfl, hma, by omega, Nat.le_refl _, Lib.hid (fun t _ h => by omega), Lib.hid (fun t ht h => by have := Hb.out; omega), H⟩
  case round =>
    obtain ⟨p, q, rfl, rfl, hp, hpq, hq, hlo, hhi, hat⟩ := hrel
    clear H
    by_cases hlt : p < q
    · obtain ⟨hh, he, hh1, hh2⟩ : ∃ hh : Nat, ((p : Int) + (q : Int)) / 2 = (hh : Int) ∧ p ≤ hh ∧ hh < q := ⟨(p + q) / 2, by omega, by omega, by omega⟩
      have htb : hh - (a + 1) < B.length := by have := Hb.out; omega
      obtain ⟨y, hy⟩ : ∃ y, B[hh - (a + 1)] = y := ⟨_, rfl⟩
      have i1 : o + hh = P.length + (X ++ x :: B.take (hh - (a + 1))).length := by rw [Ho.out]; simp; have := Ha.out; omega
      have i2 : o + a = P.length + X.length := by rw [Ho.out, Ha.out]
      have CF := Lib.hid (fun w' (u : Up wr w') => show w'.cell? ⟨g, o + hh, none⟩ = some (.int .i64 (y : Int)) ∧ w'.cell? ⟨g, o + a, none⟩ = some (.int .i64 (x : Int)) from by
        have h1 := hat.out.go u
        refine ⟨?_, (h1.cell i2).1⟩
        have e : X ++ x :: (B ++ Z) = (X ++ x :: B.take (hh - (a + 1))) ++ y :: (B.drop (hh - (a + 1) + 1) ++ Z) := by
          have : B = B.take (hh - (a + 1)) ++ y :: B.drop (hh - (a + 1) + 1) := by rw [← hy, ← List.drop_eq_getElem_cons htb, List.take_append_drop]
          have h2 : X ++ x :: (B ++ Z) = X ++ x :: ((B.take (hh - (a + 1)) ++ y :: B.drop (hh - (a + 1) + 1)) ++ Z) := by rw [← this]
          rw [h2]
          simp only [List.append_assoc, List.cons_append]
        rw [e] at h1
        exact (h1.cell i1).1)
      have hhl : hh < len := by omega
      have hal : a < len := by omega
      have hen := HE.out
      have HY := Lib.hid hy
      clear i1 i2 hy
      go_wp2_with fail
      refine wp_region_pi [(0, false), (1, false), (2, false), (3, false), (4, false), (5, false), (6, false), (7, false), (8, false), (9, true), (10, false)] (by kernel_rfl) (by kernel_rfl) (fun _ _ d _ _ h => by cases d <;> exact h) ?_
      ((with_reducible apply pi_take); (focus exact rfl); (focus exact rfl); (focus (intro w' u1; obtain ⟨cc1, cc2⟩ := CF.out w' (Up.of_drew u1); go_simp; try with_reducible rfl; done)); dsimp only [Act.put]; simp only [List.setIfInBounds_toArray, List.set_cons_succ, List.set_cons_zero])
      ((with_reducible apply pi_take); (focus exact rfl); (focus exact rfl); (focus (intro w' u1; obtain ⟨cc1, cc2⟩ := CF.out w' (Up.of_drew u1); go_simp; try with_reducible rfl; done)); dsimp only [Act.put]; simp only [List.setIfInBounds_toArray, List.set_cons_succ, List.set_cons_zero])
      ((with_reducible apply pi_take); (focus exact rfl); (focus exact rfl); (focus (intro w' u1; obtain ⟨cc1, cc2⟩ := CF.out w' (Up.of_drew u1); go_simp; try with_reducible rfl; done)); dsimp only [Act.put]; simp only [List.setIfInBounds_toArray, List.set_cons_succ, List.set_cons_zero])
      ((with_reducible apply pi_take); (focus exact rfl); (focus exact rfl); (focus (intro w' u1; obtain ⟨cc1, cc2⟩ := CF.out w' (Up.of_drew u1); go_simp; try with_reducible rfl; done)); dsimp only [Act.put]; simp only [List.setIfInBounds_toArray, List.set_cons_succ, List.set_cons_zero])
      ((with_reducible apply pi_take); (focus exact rfl); (focus exact rfl); (focus (intro w' u1; obtain ⟨cc1, cc2⟩ := CF.out w' (Up.of_drew u1); go_simp; try with_reducible rfl; done)); dsimp only [Act.put]; simp only [List.setIfInBounds_toArray, List.set_cons_succ, List.set_cons_zero])
      ((with_reducible apply pi_take); (focus exact rfl); (focus exact rfl); (focus (intro w' u1; obtain ⟨cc1, cc2⟩ := CF.out w' (Up.of_drew u1); go_simp; try with_reducible rfl; done)); dsimp only [Act.put]; simp only [List.setIfInBounds_toArray, List.set_cons_succ, List.set_cons_zero])
      ((with_reducible apply pi_take); (focus exact rfl); (focus exact rfl); (focus (intro w' u1; obtain ⟨cc1, cc2⟩ := CF.out w' (Up.of_drew u1); go_simp; try with_reducible rfl; done)); dsimp only [Act.put]; simp only [List.setIfInBounds_toArray, List.set_cons_succ, List.set_cons_zero])
      ((with_reducible apply pi_take); (focus exact rfl); (focus exact rfl); (focus (intro w' u1; obtain ⟨cc1, cc2⟩ := CF.out w' (Up.of_drew u1); go_simp; try with_reducible rfl; done)); dsimp only [Act.put]; simp only [List.setIfInBounds_toArray, List.set_cons_succ, List.set_cons_zero])
      ((with_reducible apply pi_take); (focus exact rfl); (focus exact rfl); (focus (intro w' u1; obtain ⟨cc1, cc2⟩ := CF.out w' (Up.of_drew u1); go_simp; try with_reducible rfl; done)); dsimp only [Act.put]; simp only [List.setIfInBounds_toArray, List.set_cons_succ, List.set_cons_zero])
      refine pi_make rfl rfl (fun K hK => ?_)
      go_simp
      refine (HC.out y x _ (hat.out.is (by rw [← HY.out]; simp)) (hat.out.is (by simp)) (hat.out.up.trans ((Up.refl _).drew))).mono ?_
      rintro e w3 ⟨rfl, hz⟩
      have HT := Lib.hid (hat.out.go (Up.of_drew hz))
      refine hK.out _ _ hz ?_
      clear hK K hz CF hen
      by_cases hless : cls y < cls x
      · have hr0 : r y x < 0 := (HL.out y x).2 hless
        have hr1 : decide (r y x < 0) = true := decide_eq_true hr0
        ((with_reducible apply pi_take); (focus exact rfl); (focus exact rfl); (focus (intro w' u1; go_simp; try with_reducible rfl; done)); dsimp only [Act.put]; simp only [List.setIfInBounds_toArray, List.set_cons_succ, List.set_cons_zero])
        refine pi_done ?_
        go_wp2_with fail
        go_roundw
        case rel => exact ⟨hh + 1, q, by go_num, rfl, by omega, by omega, hq, Lib.hid (fun t ht h => Nat.lt_of_le_of_lt (srt_get HS.out (i := t) (j := hh - (a + 1)) (by omega) htb) (by rw [HY.out]; exact hless)), hhi, HT⟩
        case measure => simp [intOf] <;> omega
      · have hr0 : ¬ r y x < 0 := fun h => hless ((HL.out y x).1 h)
        have hr1 : decide (r y x < 0) = false := decide_eq_false hr0
        ((with_reducible apply pi_take); (focus exact rfl); (focus exact rfl); (focus (intro w' u1; go_simp; try with_reducible rfl; done)); dsimp only [Act.put]; simp only [List.setIfInBounds_toArray, List.set_cons_succ, List.set_cons_zero])
        refine pi_done ?_
        go_wp2_with fail
        go_roundw
        case rel => exact ⟨p, hh, rfl, by go_num, hp, hh1, by omega, hlo, Lib.hid (fun t ht h => Nat.le_trans (by rw [← HY.out] at hless; omega) (srt_get HS.out (i := hh - (a + 1)) (j := t) (by omega) ht)), HT⟩
        case measure => simp [intOf] <;> omega
    · obtain rfl : p = q := by omega
      obtain ⟨p1, rfl⟩ : ∃ p1, p = p1 + 1 := ⟨p - 1, by omega⟩
      obtain ⟨B1, B2, rfl, hB1⟩ : ∃ B1 B2, B = B1 ++ B2 ∧ B1.length = p1 - a := ⟨B.take (p1 - a), B.drop (p1 - a), (List.take_append_drop _ _).symm, by rw [List.length_take]; have := Hb.out; omega⟩
      have m1 : ∀ y ∈ B1, cls y < cls x := fun y hy => by
        obtain ⟨t, ht, rfl⟩ := List.getElem_of_mem hy
        have := hlo.out t (by simp; omega) (by omega)
        rwa [List.getElem_append_left ht] at this
      have m2 : ∀ y ∈ B2, cls x ≤ cls y := fun y hy => by
        obtain ⟨t, ht, rfl⟩ := List.getElem_of_mem hy
        have := hhi.out (B1.length + t) (by simp; omega) (by omega)
        rw [List.getElem_append_right (by omega)] at this
        simpa using this
      have hput := Lib.hid (put_first HS.out m1 m2)
      have hwp : IntKind.i64.wrap (p1 : Int) = (p1 : Int) := IntWalk.i64_in _ (by omega)
      have HB1 := Lib.hid hB1
      clear hB1 m1 m2 hlo hhi hlt
      go_wp2_with fail
      rename World => wo
      go_loopw [13] (fun k wr => ∃ (kk : Nat) (C1 C2 : List Nat), k = .int .i64 (kk : Int) ∧ a ≤ kk ∧ kk ≤ p1 ∧ Hid (B1 = C1 ++ C2) ∧ Hid (kk = a + C1.length) ∧ Hid (Pat W g N D P S (X ++ (C1 ++ x :: (C2 ++ (B2 ++ Z)))) wr)) (fun k _ => p1 - (intOf k).toNat)
      case atStart => exact ⟨a, [], B1, rfl, Nat.le_refl _, by omega, Lib.hid rfl, Lib.hid rfl, Lib.hid (by have := hat.out; simpa using this)⟩
      case round =>
        obtain ⟨kk, C1, C2, rfl, hak, hkp, hC, hkC, hat2⟩ := hrel
        clear hat
        by_cases hkl : kk < p1
        · obtain ⟨y, C3, rfl⟩ : ∃ y C3, C2 = y :: C3 := by
            cases C2 with
            | nil => have h1 := congrArg List.length hC.out; have h2 := HB1.out; have h3 := hkC.out; rw [List.append_nil] at h1; omega
            | cons y C3 => exact ⟨y, C3, rfl⟩
          have h0 := hat2.out
          rw [show X ++ (C1 ++ x :: (y :: C3 ++ (B2 ++ Z))) = (X ++ C1) ++ x :: ([] ++ y :: (C3 ++ (B2 ++ Z))) by simp] at h0
          have i1 : o + kk = P.length + (X ++ C1).length := by rw [Ho.out, List.length_append, hkC.out, Ha.out]
          have i2 : o + (kk + 1) = P.length + (X ++ C1).length + 1 + ([] : List Nat).length := by rw [List.length_nil]; omega
          obtain ⟨⟨k1, f1⟩, k2, f2⟩ := h0.two i1 i2
          have HSw := Lib.hid (h0.swap i1 i2)
          have hkn : kk + 1 < len := by omega
          clear h0 i1 i2 hat2
          go_wp2_with fail
          go_region
          go_wp2_with fail
          go_roundw
          case rel =>
            refine ⟨kk + 1, C1 ++ [y], C3, by go_num, by omega, by omega, Lib.hid (by rw [hC.out]; simp), Lib.hid (by have := hkC.out; simp; omega), Lib.hid ?_⟩
            have := HSw.out.go ((Up.refl _).drew)
            simpa using this
          case measure => simp [intOf] <;> omega
        · obtain rfl : kk = p1 := by omega
          have e2 : C2 = [] := List.eq_nil_of_length_eq_zero (by have h1 := congrArg List.length hC.out; have h2 := HB1.out; have h3 := hkC.out; rw [List.length_append] at h1; omega)
          have hC1 := hC.out
          subst e2
          rw [List.append_nil] at hC1
          subst hC1
          have hfin := hat2.out
          rw [List.nil_append] at hfin
          have HF := Lib.hid hfin
          clear hfin hat2
          go_wp2_with fail
          (try simp only [Exit.inBlock, Exit.then])
          refine bodyPost_ret (results_none rfl _ _ _) rfl ?_
          exact ⟨rfl, B1 ++ x :: B2, hput.out, by have := HF.out; simpa using this⟩

end Go.Proofs.Ythkbjbbffkgpfaa
