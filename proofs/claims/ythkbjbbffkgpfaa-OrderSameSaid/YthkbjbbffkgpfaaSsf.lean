/- slices.SortStableFunc: one element is merged with a run ahead of it. -/
import Derived.Test.YthkbjbbffkgpfaaSsd
namespace Go.Proofs.Ythkbjbbffkgpfaa
open Go.RowKit Go.Proofs.Ythkbjbbffkgpfaa.Stb
variable {W : World} {g N D : Nat} {P S : List Nat} {c : FuncId} {cb : Value} {cls : Nat → Nat} {r : Nat → Nat → Int}

set_option maxRecDepth 100000 in
set_option maxHeartbeats 1600000 in
theorem merge_right (K : CmpOk c cb W N cls r) (X A : List Nat) (x : Nat) (Z : List Nat) (o len cap a m b : Nat) (w : World) (h : Pat W g N D P S (X ++ (A ++ x :: Z)) w) (ho : o = P.length) (hlen : len = (X ++ (A ++ x :: Z)).length)
    (ha : a = X.length) (hm : m = a + A.length) (hb : b = m + 1) (hA : A.length ≠ 1) (hN : N ≤ 4611686018427387904) (hs : srt cls A) :
    Calls Try.prog 32 #[.slice (some ⟨g, o, none⟩) len cap, .int .i64 (a : Int), .int .i64 (m : Int), .int .i64 (b : Int), .func (.func c) #[] #[cb]] w fun e w' => e = .returned (.tuple #[]) ∧ ∃ R, Mg cls A [x] R ∧ Pat W g N D P S (X ++ (R ++ Z)) w' := by
  have hlt := h.lt
  have hlN : P.length + len ≤ N := by rw [hlen]; exact hlt
  have hll : len = a + A.length + 1 + Z.length := by rw [hlen, ha]; simp; omega
  have hoN : o + len ≤ 4611686018427387904 := by omega
  have hml : m < len := by omega
  have hbl : b ≤ len := by omega
  have ham : a ≤ m := by omega
  have hn1 : ((m : Int) - (a : Int) == 1) = false := beq_eq_false_iff_ne.2 (by omega)
  have hb1 : (b : Int) - (m : Int) = 1 := by omega
  have H := Lib.hid h
  have Ho := Lib.hid ho
  have Ha := Lib.hid ha
  have Hm := Lib.hid hm
  have HE := Lib.hid K.enter
  have HC := Lib.hid K.call
  have HL := Lib.hid K.less
  have HS := Lib.hid hs
  clear h ho ha hb hlen hll hlN hlt K hs hm hA
  go_enter Try.func32, Try.ntmps32
  go_wp2_with fail
  go_loopw [14, 15] (fun i j wr => ∃ (p q : Nat), i = .int .i64 (p : Int) ∧ j = .int .i64 (q : Int) ∧ a ≤ p ∧ p ≤ q ∧ q ≤ m ∧ Hid (∀ t (ht : t < A.length), a + t < p → cls A[t] ≤ cls x) ∧ Hid (∀ t (ht : t < A.length), q ≤ a + t → cls x < cls A[t]) ∧ Hid (Pat W g N D P S (X ++ (A ++ x :: Z)) wr)) (fun i j _ => (intOf j).toNat - (intOf i).toNat)
  case atStart => exact ⟨a, m, rfl, rfl, Nat.le_refl _, ham, Nat.le_refl _, Lib.hid (fun t _ h => by omega), Lib.hid (fun t ht h => by have := Hm.out; omega), H⟩
  case round =>
    obtain ⟨p, q, rfl, rfl, hp, hpq, hq, hlo, hhi, hat⟩ := hrel
    clear H
    by_cases hlt : p < q
    · obtain ⟨hh, he, hh1, hh2⟩ : ∃ hh : Nat, ((p : Int) + (q : Int)) / 2 = (hh : Int) ∧ p ≤ hh ∧ hh < q := ⟨(p + q) / 2, by omega, by omega, by omega⟩
      have htb : hh - a < A.length := by have := Hm.out; omega
      obtain ⟨y, hy⟩ : ∃ y, A[hh - a] = y := ⟨_, rfl⟩
      have i1 : o + hh = P.length + (X ++ A.take (hh - a)).length := by rw [Ho.out]; simp; have := Ha.out; omega
      have i2 : o + m = P.length + (X ++ A).length := by rw [Ho.out, List.length_append, ← Ha.out, ← Hm.out]
      have CF := Lib.hid (fun w' (u : Up wr w') => show w'.cell? ⟨g, o + hh, none⟩ = some (.int .i64 (y : Int)) ∧ w'.cell? ⟨g, o + m, none⟩ = some (.int .i64 (x : Int)) from by
        have h1 := hat.out.go u
        have h3 := h1
        rw [show X ++ (A ++ x :: Z) = (X ++ A) ++ x :: Z by simp] at h3
        refine ⟨?_, (h3.cell i2).1⟩
        have e : X ++ (A ++ x :: Z) = (X ++ A.take (hh - a)) ++ y :: (A.drop (hh - a + 1) ++ x :: Z) := by
          have : A = A.take (hh - a) ++ y :: A.drop (hh - a + 1) := by rw [← hy, ← List.drop_eq_getElem_cons htb, List.take_append_drop]
          have h2 : X ++ (A ++ x :: Z) = X ++ ((A.take (hh - a) ++ y :: A.drop (hh - a + 1)) ++ x :: Z) := by rw [← this]
          rw [h2]
          simp only [List.append_assoc, List.cons_append]
        rw [e] at h1
        exact (h1.cell i1).1)
      have hhl : hh < len := by omega
      have hen := HE.out
      have HY := Lib.hid hy
      clear i1 i2 hy
      go_wp2_with fail
      refine wp_region_pi [(0, false), (1, false), (2, false), (3, false), (4, false), (5, false), (6, false), (7, false), (8, false), (9, true), (10, false), (11, false)] (by kernel_rfl) (by kernel_rfl) (fun _ _ d _ _ h => by cases d <;> exact h) ?_
      ((with_reducible apply pi_take); (focus exact rfl); (focus exact rfl); (focus (intro w' u1; obtain ⟨cc1, cc2⟩ := CF.out w' (Up.of_drew u1); go_simp; try with_reducible rfl; done)); dsimp only [Act.put]; simp only [List.setIfInBounds_toArray, List.set_cons_succ, List.set_cons_zero])
      ((with_reducible apply pi_take); (focus exact rfl); (focus exact rfl); (focus (intro w' u1; obtain ⟨cc1, cc2⟩ := CF.out w' (Up.of_drew u1); go_simp; try with_reducible rfl; done)); dsimp only [Act.put]; simp only [List.setIfInBounds_toArray, List.set_cons_succ, List.set_cons_zero])
      ((with_reducible apply pi_take); (focus exact rfl); (focus exact rfl); (focus (intro w' u1; obtain ⟨cc1, cc2⟩ := CF.out w' (Up.of_drew u1); go_simp; try with_reducible rfl; done)); dsimp only [Act.put]; simp only [List.setIfInBounds_toArray, List.set_cons_succ, List.set_cons_zero])
      ((with_reducible apply pi_take); (focus exact rfl); (focus exact rfl); (focus (intro w' u1; obtain ⟨cc1, cc2⟩ := CF.out w' (Up.of_drew u1); go_simp; try with_reducible rfl; done)); dsimp only [Act.put]; simp only [List.setIfInBounds_toArray, List.set_cons_succ, List.set_cons_zero])
      ((with_reducible apply pi_take); (focus exact rfl); (focus exact rfl); (focus (intro w' u1; obtain ⟨cc1, cc2⟩ := CF.out w' (Up.of_drew u1); go_simp; try with_reducible rfl; done)); dsimp only [Act.put]; simp only [List.setIfInBounds_toArray, List.set_cons_succ, List.set_cons_zero])
      ((with_reducible apply pi_take); (focus exact rfl); (focus exact rfl); (focus (intro w' u1; obtain ⟨cc1, cc2⟩ := CF.out w' (Up.of_drew u1); go_simp; try with_reducible rfl; done)); dsimp only [Act.put]; simp only [List.setIfInBounds_toArray, List.set_cons_succ, List.set_cons_zero])
      ((with_reducible apply pi_take); (focus exact rfl); (focus exact rfl); (focus (intro w' u1; obtain ⟨cc1, cc2⟩ := CF.out w' (Up.of_drew u1); go_simp; try with_reducible rfl; done)); dsimp only [Act.put]; simp only [List.setIfInBounds_toArray, List.set_cons_succ, List.set_cons_zero])
      ((with_reducible apply pi_take); (focus exact rfl); (focus exact rfl); (focus (intro w' u1; obtain ⟨cc1, cc2⟩ := CF.out w' (Up.of_drew u1); go_simp; try with_reducible rfl; done)); dsimp only [Act.put]; simp only [List.setIfInBounds_toArray, List.set_cons_succ, List.set_cons_zero])
      ((with_reducible apply pi_take); (focus exact rfl); (focus exact rfl); (focus (intro w' u1; obtain ⟨cc1, cc2⟩ := CF.out w' (Up.of_drew u1); go_simp; try with_reducible rfl; done)); dsimp only [Act.put]; simp only [List.setIfInBounds_toArray, List.set_cons_succ, List.set_cons_zero])
      refine pi_make rfl rfl (fun K hK => ?_)
      go_simp
      refine (HC.out x y _ (hat.out.is (by simp)) (hat.out.is (by rw [← HY.out]; simp)) (hat.out.up.trans ((Up.refl _).drew))).mono ?_
      rintro e w3 ⟨rfl, hz⟩
      have HT := Lib.hid (hat.out.go (Up.of_drew hz))
      refine hK.out _ _ hz ?_
      clear hK K hz CF hen
      by_cases hless : cls x < cls y
      · have hr0 : r x y < 0 := (HL.out x y).2 hless
        have hr1 : decide (r x y < 0) = true := decide_eq_true hr0
        ((with_reducible apply pi_take); (focus exact rfl); (focus exact rfl); (focus (intro w' u1; go_simp; try with_reducible rfl; done)); dsimp only [Act.put]; simp only [List.setIfInBounds_toArray, List.set_cons_succ, List.set_cons_zero])
        ((with_reducible apply pi_take); (focus exact rfl); (focus exact rfl); (focus (intro w' u1; go_simp; try with_reducible rfl; done)); dsimp only [Act.put]; simp only [List.setIfInBounds_toArray, List.set_cons_succ, List.set_cons_zero])
        refine pi_done ?_
        go_wp2_with fail
        go_roundw
        case rel => exact ⟨p, hh, rfl, by go_num, hp, hh1, by omega, hlo, Lib.hid (fun t ht h => Nat.lt_of_lt_of_le (by rw [← HY.out] at hless; exact hless) (srt_get HS.out (i := hh - a) (j := t) (by omega) ht)), HT⟩
        case measure => simp [intOf] <;> omega
      · have hr0 : ¬ r x y < 0 := fun h => hless ((HL.out x y).1 h)
        have hr1 : decide (r x y < 0) = false := decide_eq_false hr0
        ((with_reducible apply pi_take); (focus exact rfl); (focus exact rfl); (focus (intro w' u1; go_simp; try with_reducible rfl; done)); dsimp only [Act.put]; simp only [List.setIfInBounds_toArray, List.set_cons_succ, List.set_cons_zero])
        ((with_reducible apply pi_take); (focus exact rfl); (focus exact rfl); (focus (intro w' u1; go_simp; try with_reducible rfl; done)); dsimp only [Act.put]; simp only [List.setIfInBounds_toArray, List.set_cons_succ, List.set_cons_zero])
        refine pi_done ?_
        go_wp2_with fail
        go_roundw
        case rel => exact ⟨hh + 1, q, by go_num, rfl, by omega, by omega, hq, Lib.hid (fun t ht h => Nat.le_trans (srt_get HS.out (i := t) (j := hh - a) (by omega) htb) (by rw [HY.out]; omega)), hhi, HT⟩
        case measure => simp [intOf] <;> omega
    · obtain rfl : p = q := by omega
      obtain ⟨A1, A2, rfl, hA1⟩ : ∃ A1 A2, A = A1 ++ A2 ∧ A1.length = p - a := ⟨A.take (p - a), A.drop (p - a), (List.take_append_drop _ _).symm, by rw [List.length_take]; have := Hm.out; omega⟩
      have m1 : ∀ y ∈ A1, cls y ≤ cls x := fun y hy => by
        obtain ⟨t, ht, rfl⟩ := List.getElem_of_mem hy
        have := hlo.out t (by simp; omega) (by omega)
        rwa [List.getElem_append_left ht] at this
      have m2 : ∀ y ∈ A2, cls x < cls y := fun y hy => by
        obtain ⟨t, ht, rfl⟩ := List.getElem_of_mem hy
        have := hhi.out (A1.length + t) (by simp; omega) (by omega)
        rw [List.getElem_append_right (by omega)] at this
        simpa using this
      have hput := Lib.hid (put_in HS.out m2 m1)
      have HA1 := Lib.hid hA1
      clear hA1 m1 m2 hlo hhi hlt
      go_wp2_with fail
      rename World => wo
      go_loopw [17] (fun k wr => ∃ (kk : Nat) (C1 C2 : List Nat), k = .int .i64 (kk : Int) ∧ p ≤ kk ∧ kk ≤ m ∧ Hid (A2 = C1 ++ C2) ∧ Hid (kk = p + C1.length) ∧ Hid (Pat W g N D P S (X ++ (A1 ++ (C1 ++ x :: (C2 ++ Z)))) wr)) (fun k _ => (intOf k).toNat)
      case atStart => exact ⟨m, A2, [], rfl, hq, Nat.le_refl _, Lib.hid (List.append_nil _).symm, Lib.hid (by have h1 := Hm.out; have h2 := HA1.out; simp at h1; omega), Lib.hid (by have := hat.out; simpa using this)⟩
      case round =>
        obtain ⟨kk, C1, C2, rfl, hpk, hkm, hC, hkC, hat2⟩ := hrel
        clear hat
        by_cases hkl : p < kk
        · obtain ⟨C3, y, rfl⟩ : ∃ C3 y, C1 = C3 ++ [y] := by
            have h1 := hkC.out
            have h2 : C1 ≠ [] := fun e => by rw [e] at h1; simp at h1; omega
            exact ⟨C1.dropLast, C1.getLast h2, (List.dropLast_concat_getLast h2).symm⟩
          obtain ⟨kp, rfl⟩ : ∃ kp, kk = kp + 1 := ⟨kk - 1, by omega⟩
          have hkp : kp = p + C3.length := by have h1 := hkC.out; simp at h1; omega
          have h0 := hat2.out
          rw [show X ++ (A1 ++ (C3 ++ [y] ++ x :: (C2 ++ Z))) = (X ++ A1 ++ C3) ++ y :: ([] ++ x :: (C2 ++ Z)) by simp] at h0
          have i1 : o + kp = P.length + (X ++ A1 ++ C3).length := by rw [Ho.out]; simp; have h1 := HA1.out; have h2 := Ha.out; omega
          have i2 : o + (kp + 1) = P.length + (X ++ A1 ++ C3).length + 1 + ([] : List Nat).length := by rw [List.length_nil]; omega
          obtain ⟨⟨k1, f1⟩, k2, f2⟩ := h0.two i1 i2
          have HSw := Lib.hid (h0.swap2 i1 i2)
          have hkn : kp + 1 < len := by omega
          have hwk : IntKind.i64.wrap (kp : Int) = (kp : Int) := IntWalk.i64_in _ (by omega)
          have hgt : (p : Int) < (kp : Int) + 1 := by omega
          have hk2 : kp < len := by omega
          have HK := Lib.hid hkp
          clear h0 i1 i2 hat2 hkp
          go_wp2_with fail
          go_region
          go_wp2_with fail
          go_roundw
          case rel =>
            refine ⟨kp, C3, y :: C2, by go_num, by omega, by omega, Lib.hid (by rw [hC.out]; simp), HK, Lib.hid ?_⟩
            have := HSw.out.go ((Up.refl _).drew)
            simpa using this
          case measure => simp [intOf] <;> omega
        · obtain rfl : kk = p := by omega
          have e2 : C1 = [] := List.eq_nil_of_length_eq_zero (by have h3 := hkC.out; omega)
          have hC1 := hC.out
          subst e2
          rw [List.nil_append] at hC1
          subst hC1
          have hfin := hat2.out
          rw [List.nil_append] at hfin
          have HF := Lib.hid hfin
          clear hfin hat2
          go_wp2_with fail
          (try simp only [Exit.inBlock, Exit.then])
          refine bodyPost_ret (results_none rfl _ _ _) rfl ?_
          exact ⟨rfl, A1 ++ x :: A2, hput.out, by have := HF.out; simpa using this⟩

end Go.Proofs.Ythkbjbbffkgpfaa
