/- slices.SortStableFunc: a run is sorted by insertion. -/
import Derived.Test.YthkbjbbffkgpfaaSsa
import Derived.Test.YthkbjbbffkgpfaaStb
namespace Go.Proofs.Ythkbjbbffkgpfaa
open Go.RowKit Go.Proofs.Ythkbjbbffkgpfaa.Stb

/-- The comparison: below 0 where the first one's class is less. -/
structure CmpOk (c : FuncId) (cb : Value) (W : World) (N : Nat) (cls : Nat → Nat) (r : Nat → Nat → Int) : Prop where
  enter : ∀ (args : Array Value) (w : World), (callFunc c args).run Try.prog w = .ok (.enter c args) w
  call : ∀ (x y : Nat) (w : World), x < N → y < N → Up W w → Calls Try.prog c #[.int .i64 (x : Int), .int .i64 (y : Int), cb] w fun e w' => e = .returned (.int .i64 (r x y)) ∧ Up w w'
  less : ∀ x y : Nat, r x y < 0 ↔ cls x < cls y

variable {W : World} {g N D : Nat} {P S : List Nat} {c : FuncId} {cb : Value} {cls : Nat → Nat} {r : Nat → Nat → Int}

set_option maxRecDepth 100000 in
set_option maxHeartbeats 1600000 in
theorem insertion_run (K : CmpOk c cb W N cls r) (X R Z : List Nat) (o len cap a b : Nat) (w : World) (h : Pat W g N D P S (X ++ (R ++ Z)) w) (ho : o = P.length) (hlen : len = (X ++ (R ++ Z)).length)
    (ha : a = X.length) (hb : b = a + R.length) (hN : N ≤ 4611686018427387904) :
    Calls Try.prog 31 #[.slice (some ⟨g, o, none⟩) len cap, .int .i64 (a : Int), .int .i64 (b : Int), .func (.func c) #[] #[cb]] w fun e w' => e = .returned (.tuple #[]) ∧ ∃ R', srt cls R' ∧ Arr cls R' R ∧ Pat W g N D P S (X ++ (R' ++ Z)) w' := by
  have hlt := h.lt
  have hlN : P.length + len ≤ N := by rw [hlen]; exact hlt
  have hll : len = a + R.length + Z.length := by rw [hlen, ha]; simp; omega
  have hoN : o + len ≤ 4611686018427387904 := by omega
  have hbl : b ≤ len := by omega
  have H := Lib.hid h
  have Ho := Lib.hid ho
  have Ha := Lib.hid ha
  have Hb := Lib.hid hb
  have HE := Lib.hid K.enter
  have HC := Lib.hid K.call
  have HL := Lib.hid K.less
  cases R with
  | nil =>
    have hba : (b : Int) = (a : Int) := by simp at hb; omega
    clear h ho ha hb hlen hll hlN hlt K
    go_enter Try.func31, Try.ntmps31
    go_wp2_with fail
    go_loopw [8] (fun i wr => i = .int .i64 ((a : Int) + 1) ∧ Hid (Pat W g N D P S (X ++ ([] ++ Z)) wr)) (fun _ _ => 0)
    case atStart => exact ⟨rfl, H⟩
    case round =>
      obtain ⟨rfl, hat⟩ := hrel
      go_wp2_with fail
      go_end0
      exact ⟨rfl, [], srt_nil, Arr.refl _ _, hat.out⟩
  | cons x0 R =>
    have hab : a + 1 ≤ b := by simp at hb; omega
    clear h ho ha hb hlen hll hlN hlt K
    go_enter Try.func31, Try.ntmps31
    go_wp2_with fail
    go_loopw [8] (fun i wr => ∃ (k : Nat) (R1 R2 R0 : List Nat), i = .int .i64 (k : Int) ∧ a < k ∧ k ≤ b ∧ Hid (k = a + R1.length) ∧ Hid (x0 :: R = R0 ++ R2) ∧ Hid (Arr cls R1 R0) ∧ Hid (srt cls R1) ∧ Hid (Pat W g N D P S (X ++ (R1 ++ (R2 ++ Z))) wr)) (fun i _ => b - (intOf i).toNat)
    case atStart => exact ⟨a + 1, [x0], R, [x0], by go_num, by omega, hab, Lib.hid rfl, Lib.hid rfl, Lib.hid (Arr.refl _ _), Lib.hid (srt_one _), H⟩
    case round =>
      obtain ⟨k, R1, R2, R0, rfl, hak, hkb, hk, hR, hArr, hsrt, hat⟩ := hrel
      clear H
      by_cases hkl : k < b
      · obtain ⟨x, R3, rfl⟩ : ∃ x R3, R2 = x :: R3 := by
          cases R2 with
          | nil => have h1 := hR.out; have h2 := hArr.out.len; have h3 := Hb.out; have h4 := hk.out; rw [List.append_nil] at h1; rw [h1] at h3; omega
          | cons x R3 => exact ⟨x, R3, rfl⟩
        go_wp2_with fail
        rename World => wo
        go_loopw [9] (fun j wr => ∃ (q : Nat) (U V : List Nat), j = .int .i64 (q : Int) ∧ a ≤ q ∧ q ≤ k ∧ Hid (q = a + U.length) ∧ Hid (R1 = U ++ V) ∧ Hid (∀ y ∈ V, cls x < cls y) ∧ Hid (Pat W g N D P S (X ++ (U ++ x :: (V ++ (R3 ++ Z)))) wr)) (fun j _ => (intOf j).toNat)
        case atStart => exact ⟨k, R1, [], rfl, by omega, Nat.le_refl _, hk, Lib.hid (List.append_nil _).symm, Lib.hid (fun y hy => by cases hy), by simpa using hat⟩
        case round =>
          obtain ⟨q, U, V, rfl, haq, hqk, hq, hUV, hV, hat⟩ := hrel
          by_cases hqa : a < q
          · obtain ⟨U1, y, rfl⟩ : ∃ U1 y, U = U1 ++ [y] := by
              have h1 := hq.out
              have h2 : U ≠ [] := fun e => by rw [e] at h1; simp at h1; omega
              exact ⟨U.dropLast, U.getLast h2, (List.dropLast_concat_getLast h2).symm⟩
            obtain ⟨qp, rfl⟩ : ∃ qp, q = qp + 1 := ⟨q - 1, by omega⟩
            have hqp : qp = a + U1.length := by have h1 := hq.out; simp at h1; omega
            have i1 : o + qp = P.length + (X ++ U1).length := by rw [Ho.out, hqp, Ha.out, List.length_append]
            have i2 : o + (qp + 1) = P.length + (X ++ U1).length + 1 + ([] : List Nat).length := by rw [List.length_nil]; omega
            have AT := Lib.hid (fun w' (u : Up wr w') => show Pat W g N D P S ((X ++ U1) ++ y :: ([] ++ x :: (V ++ (R3 ++ Z)))) w' from by
              have := hat.out.go u
              simpa using this)
            have CF := Lib.hid (fun w' (u : Up wr w') => show w'.cell? ⟨g, o + (qp + 1), none⟩ = some (.int .i64 (x : Int)) ∧ w'.cell? ⟨g, o + qp, none⟩ = some (.int .i64 (y : Int)) from by
              obtain ⟨⟨k1, _⟩, k2, _⟩ := (AT.out w' u).two i1 i2
              exact ⟨k2, k1⟩)
            have C2 := Lib.hid (fun w' (u : Up wr w') => (AT.out w' u).two i1 i2)
            have S2 := Lib.hid (fun w' (u : Up wr w') => (AT.out w' u).swap2 i1 i2)
            have hql : qp + 1 < len := by omega
            have hqa2 : a ≤ qp := by omega
            have hgt : (a : Int) < (qp : Int) + 1 := by omega
            have hgd : decide ((a : Int) < (qp : Int) + 1) = true := decide_eq_true hgt
            have hb1 : (0 : Int) ≤ (qp : Int) + 1 := by omega
            have hb2 : (qp : Int) + 1 < (len : Int) := by omega
            have hb3 : qp < len := by omega
            have hwq : IntKind.i64.wrap (qp : Int) = (qp : Int) := IntWalk.i64_in _ (by omega)
            have hen := HE.out
            have HQ := Lib.hid hqp
            clear i1 i2 hq hqp
            go_wp2_with fail
            refine wp_region_pi [(0, false), (1, false), (2, false), (3, false), (4, false), (5, false), (6, false), (7, false), (8, false), (9, false), (10, false), (11, false), (12, false), (13, false), (14, true), (15, false), (16, false)] (by kernel_rfl) (by kernel_rfl) (fun _ _ d _ _ h => by cases d <;> exact h) ?_
            ((with_reducible apply pi_take); (focus exact rfl); (focus exact rfl); (focus (intro w' u1; obtain ⟨cc1, cc2⟩ := CF.out w' (Up.of_drew u1); go_simp; try with_reducible rfl; done)); dsimp only [Act.put]; simp only [List.setIfInBounds_toArray, List.set_cons_succ, List.set_cons_zero])
            ((with_reducible apply pi_take); (focus exact rfl); (focus exact rfl); (focus (intro w' u1; obtain ⟨cc1, cc2⟩ := CF.out w' (Up.of_drew u1); go_simp; try with_reducible rfl; done)); dsimp only [Act.put]; simp only [List.setIfInBounds_toArray, List.set_cons_succ, List.set_cons_zero])
            ((with_reducible apply pi_take); (focus exact rfl); (focus exact rfl); (focus (intro w' u1; obtain ⟨cc1, cc2⟩ := CF.out w' (Up.of_drew u1); go_simp; try with_reducible rfl; done)); dsimp only [Act.put]; simp only [List.setIfInBounds_toArray, List.set_cons_succ, List.set_cons_zero])
            ((with_reducible apply pi_take); (focus exact rfl); (focus exact rfl); (focus (intro w' u1; obtain ⟨cc1, cc2⟩ := CF.out w' (Up.of_drew u1); go_simp; try with_reducible rfl; done)); dsimp only [Act.put]; simp only [List.setIfInBounds_toArray, List.set_cons_succ, List.set_cons_zero])
            ((with_reducible apply pi_take); (focus exact rfl); (focus exact rfl); (focus (intro w' u1; obtain ⟨cc1, cc2⟩ := CF.out w' (Up.of_drew u1); go_simp; try with_reducible rfl; done)); dsimp only [Act.put]; simp only [List.setIfInBounds_toArray, List.set_cons_succ, List.set_cons_zero])
            ((with_reducible apply pi_take); (focus exact rfl); (focus exact rfl); (focus (intro w' u1; obtain ⟨cc1, cc2⟩ := CF.out w' (Up.of_drew u1); go_simp; try with_reducible rfl; done)); dsimp only [Act.put]; simp only [List.setIfInBounds_toArray, List.set_cons_succ, List.set_cons_zero])
            ((with_reducible apply pi_take); (focus exact rfl); (focus exact rfl); (focus (intro w' u1; obtain ⟨cc1, cc2⟩ := CF.out w' (Up.of_drew u1); go_simp; try with_reducible rfl; done)); dsimp only [Act.put]; simp only [List.setIfInBounds_toArray, List.set_cons_succ, List.set_cons_zero])
            ((with_reducible apply pi_take); (focus exact rfl); (focus exact rfl); (focus (intro w' u1; obtain ⟨cc1, cc2⟩ := CF.out w' (Up.of_drew u1); go_simp; try with_reducible rfl; done)); dsimp only [Act.put]; simp only [List.setIfInBounds_toArray, List.set_cons_succ, List.set_cons_zero])
            ((with_reducible apply pi_take); (focus exact rfl); (focus exact rfl); (focus (intro w' u1; obtain ⟨cc1, cc2⟩ := CF.out w' (Up.of_drew u1); go_simp; try with_reducible rfl; done)); dsimp only [Act.put]; simp only [List.setIfInBounds_toArray, List.set_cons_succ, List.set_cons_zero])
            ((with_reducible apply pi_take); (focus exact rfl); (focus exact rfl); (focus (intro w' u1; obtain ⟨cc1, cc2⟩ := CF.out w' (Up.of_drew u1); go_simp; try with_reducible rfl; done)); dsimp only [Act.put]; simp only [List.setIfInBounds_toArray, List.set_cons_succ, List.set_cons_zero])
            ((with_reducible apply pi_take); (focus exact rfl); (focus exact rfl); (focus (intro w' u1; obtain ⟨cc1, cc2⟩ := CF.out w' (Up.of_drew u1); go_simp; try with_reducible rfl; done)); dsimp only [Act.put]; simp only [List.setIfInBounds_toArray, List.set_cons_succ, List.set_cons_zero])
            ((with_reducible apply pi_take); (focus exact rfl); (focus exact rfl); (focus (intro w' u1; obtain ⟨cc1, cc2⟩ := CF.out w' (Up.of_drew u1); go_simp; try with_reducible rfl; done)); dsimp only [Act.put]; simp only [List.setIfInBounds_toArray, List.set_cons_succ, List.set_cons_zero])
            ((with_reducible apply pi_take); (focus exact rfl); (focus exact rfl); (focus (intro w' u1; obtain ⟨cc1, cc2⟩ := CF.out w' (Up.of_drew u1); go_simp; try with_reducible rfl; done)); dsimp only [Act.put]; simp only [List.setIfInBounds_toArray, List.set_cons_succ, List.set_cons_zero])
            ((with_reducible apply pi_take); (focus exact rfl); (focus exact rfl); (focus (intro w' u1; obtain ⟨cc1, cc2⟩ := CF.out w' (Up.of_drew u1); go_simp; try with_reducible rfl; done)); dsimp only [Act.put]; simp only [List.setIfInBounds_toArray, List.set_cons_succ, List.set_cons_zero])
            refine pi_make rfl rfl (fun K hK => ?_)
            go_simp
            refine (HC.out x y _ (hat.out.is (by simp)) (hat.out.is (by simp)) (hat.out.up.trans ((Up.refl _).drew))).mono ?_
            rintro e w3 ⟨rfl, hz⟩
            have hu3 : Up wr w3 := Up.of_drew hz
            refine hK.out _ _ hz ?_
            clear hK K hz CF hen
            by_cases hless : cls x < cls y
            · have hr0 : r x y < 0 := (HL.out x y).2 hless
              have hr1 : decide (r x y < 0) = true := decide_eq_true hr0
              ((with_reducible apply pi_take); (focus exact rfl); (focus exact rfl); (focus (intro w' u1; go_simp; try with_reducible rfl; done)); dsimp only [Act.put]; simp only [List.setIfInBounds_toArray, List.set_cons_succ, List.set_cons_zero])
              ((with_reducible apply pi_take); (focus exact rfl); (focus exact rfl); (focus (intro w' u1; go_simp; try with_reducible rfl; done)); dsimp only [Act.put]; simp only [List.setIfInBounds_toArray, List.set_cons_succ, List.set_cons_zero])
              refine pi_done ?_
              obtain ⟨⟨k1, f1⟩, k2, f2⟩ := C2.out w3 hu3
              have HS := Lib.hid (S2.out w3 hu3)
              clear C2 S2 AT hu3
              go_wp2_with fail
              go_region
              go_wp2_with fail
              go_roundw
              case rel =>
                refine ⟨qp, U1, y :: V, by go_num, by omega, by omega, HQ, Lib.hid (by rw [hUV.out]; simp), Lib.hid (fun z hz => by rcases List.mem_cons.1 hz with rfl | hz; exact hless; exact hV.out z hz), Lib.hid ?_⟩
                have := HS.out.go ((Up.refl _).drew)
                simpa using this
              case measure => simp [intOf] <;> omega
            · have hr0 : ¬ r x y < 0 := fun h => hless ((HL.out x y).1 h)
              have hr1 : decide (r x y < 0) = false := decide_eq_false hr0
              ((with_reducible apply pi_take); (focus exact rfl); (focus exact rfl); (focus (intro w' u1; go_simp; try with_reducible rfl; done)); dsimp only [Act.put]; simp only [List.setIfInBounds_toArray, List.set_cons_succ, List.set_cons_zero])
              ((with_reducible apply pi_take); (focus exact rfl); (focus exact rfl); (focus (intro w' u1; go_simp; try with_reducible rfl; done)); dsimp only [Act.put]; simp only [List.setIfInBounds_toArray, List.set_cons_succ, List.set_cons_zero])
              refine pi_done ?_
              have HT := Lib.hid (AT.out w3 hu3)
              clear C2 S2 AT hu3
              go_wp2_with fail
              go_roundw
              case rel =>
                have hs := hsrt.out
                rw [hUV.out] at hs
                have hp := put_in hs hV.out (fun z hz => Nat.le_trans (last_most (srt_app.1 hs).1 z hz) (by omega))
                refine ⟨k + 1, (U1 ++ [y]) ++ x :: V, R3, R0 ++ [x], by go_num, by omega, by omega, Lib.hid ?_, Lib.hid (by rw [hR.out]; simp), Lib.hid (hp.2.trans ?_), Lib.hid hp.1, Lib.hid ?_⟩
                · have h1 := hk.out
                  rw [hUV.out] at h1
                  simp at h1 ⊢
                  omega
                · have h1 := hArr.out
                  rw [hUV.out] at h1
                  exact h1.app (Arr.refl _ _)
                · have := HT.out
                  simpa using this
              case measure => simp [intOf] <;> omega
          · obtain rfl : q = a := by omega
            have eU : U = [] := List.eq_nil_of_length_eq_zero (by have h1 := hq.out; omega)
            subst eU
            have hgd : decide ((q : Int) < (q : Int)) = false := decide_eq_false (by omega)
            go_wp2_with fail
            refine wp_region_pi [(0, false), (1, false), (2, false), (3, false), (4, false), (5, false), (6, false), (7, false), (8, false), (9, false), (10, false), (11, false), (12, false), (13, false), (14, true), (15, false), (16, false)] (by kernel_rfl) (by kernel_rfl) (fun _ _ d _ _ h => by cases d <;> exact h) ?_
            ((with_reducible apply pi_take); (focus exact rfl); (focus exact rfl); (focus (intro w' u1; go_simp; try with_reducible rfl; done)); dsimp only [Act.put]; simp only [List.setIfInBounds_toArray, List.set_cons_succ, List.set_cons_zero])
            ((with_reducible apply pi_take); (focus exact rfl); (focus exact rfl); (focus (intro w' u1; go_simp; try with_reducible rfl; done)); dsimp only [Act.put]; simp only [List.setIfInBounds_toArray, List.set_cons_succ, List.set_cons_zero])
            ((with_reducible apply pi_take); (focus exact rfl); (focus exact rfl); (focus (intro w' u1; go_simp; try with_reducible rfl; done)); dsimp only [Act.put]; simp only [List.setIfInBounds_toArray, List.set_cons_succ, List.set_cons_zero])
            ((with_reducible apply pi_take); (focus exact rfl); (focus exact rfl); (focus (intro w' u1; go_simp; try with_reducible rfl; done)); dsimp only [Act.put]; simp only [List.setIfInBounds_toArray, List.set_cons_succ, List.set_cons_zero])
            ((with_reducible apply pi_skip); (focus exact rfl); (focus exact rfl); dsimp only [Act.put]; simp only [List.setIfInBounds_toArray, List.set_cons_succ, List.set_cons_zero])
            ((with_reducible apply pi_skip); (focus exact rfl); (focus exact rfl); dsimp only [Act.put]; simp only [List.setIfInBounds_toArray, List.set_cons_succ, List.set_cons_zero])
            ((with_reducible apply pi_skip); (focus exact rfl); (focus exact rfl); dsimp only [Act.put]; simp only [List.setIfInBounds_toArray, List.set_cons_succ, List.set_cons_zero])
            ((with_reducible apply pi_skip); (focus exact rfl); (focus exact rfl); dsimp only [Act.put]; simp only [List.setIfInBounds_toArray, List.set_cons_succ, List.set_cons_zero])
            ((with_reducible apply pi_skip); (focus exact rfl); (focus exact rfl); dsimp only [Act.put]; simp only [List.setIfInBounds_toArray, List.set_cons_succ, List.set_cons_zero])
            ((with_reducible apply pi_skip); (focus exact rfl); (focus exact rfl); dsimp only [Act.put]; simp only [List.setIfInBounds_toArray, List.set_cons_succ, List.set_cons_zero])
            ((with_reducible apply pi_skip); (focus exact rfl); (focus exact rfl); dsimp only [Act.put]; simp only [List.setIfInBounds_toArray, List.set_cons_succ, List.set_cons_zero])
            ((with_reducible apply pi_skip); (focus exact rfl); (focus exact rfl); dsimp only [Act.put]; simp only [List.setIfInBounds_toArray, List.set_cons_succ, List.set_cons_zero])
            ((with_reducible apply pi_skip); (focus exact rfl); (focus exact rfl); dsimp only [Act.put]; simp only [List.setIfInBounds_toArray, List.set_cons_succ, List.set_cons_zero])
            ((with_reducible apply pi_skip); (focus exact rfl); (focus exact rfl); dsimp only [Act.put]; simp only [List.setIfInBounds_toArray, List.set_cons_succ, List.set_cons_zero])
            ((with_reducible apply pi_skip); (focus exact rfl); (focus exact rfl); dsimp only [Act.put]; simp only [List.setIfInBounds_toArray, List.set_cons_succ, List.set_cons_zero])
            ((with_reducible apply pi_skip); (focus exact rfl); (focus exact rfl); dsimp only [Act.put]; simp only [List.setIfInBounds_toArray, List.set_cons_succ, List.set_cons_zero])
            ((with_reducible apply pi_take); (focus exact rfl); (focus exact rfl); (focus (intro w' u1; go_simp; try with_reducible rfl; done)); dsimp only [Act.put]; simp only [List.setIfInBounds_toArray, List.set_cons_succ, List.set_cons_zero])
            refine pi_done ?_
            have HT := Lib.hid (hat.out.go ((Up.refl _).drew))
            go_wp2_with fail
            go_roundw
            case rel =>
              have hs := hsrt.out
              rw [hUV.out] at hs
              have hp := put_in hs hV.out (fun z hz => by cases hz)
              refine ⟨k + 1, [] ++ x :: V, R3, R0 ++ [x], by go_num, by omega, by omega, Lib.hid ?_, Lib.hid (by rw [hR.out]; simp), Lib.hid (hp.2.trans ?_), Lib.hid hp.1, Lib.hid ?_⟩
              · have h1 := hk.out
                rw [hUV.out] at h1
                simp at h1 ⊢
                omega
              · have h1 := hArr.out
                rw [hUV.out] at h1
                exact h1.app (Arr.refl _ _)
              · have := HT.out
                simpa using this
            case measure => simp [intOf] <;> omega
      · obtain rfl : k = b := by omega
        have e2 : R2 = [] := List.eq_nil_of_length_eq_zero (by have h1 := congrArg List.length hR.out; have h2 := hArr.out.len; have h3 := Hb.out; have h4 := hk.out; rw [List.length_append] at h1; omega)
        have hR := hR.out
        subst e2
        rw [List.append_nil] at hR
        subst hR
        have hat2 := Lib.hid hat.out
        clear hk hat
        go_wp2_with fail
        go_end0
        exact ⟨rfl, R1, hsrt.out, hArr.out, by simpa using hat2.out⟩

end Go.Proofs.Ythkbjbbffkgpfaa
