/- slices.SortStableFunc: blocks are sorted, then merged. -/
import Derived.Test.YthkbjbbffkgpfaaSsi
namespace Go.Proofs.Ythkbjbbffkgpfaa
open Go.RowKit Go.Proofs.Ythkbjbbffkgpfaa.Stb
section plain
variable {cls : Nat → Nat}

theorem split_at {L : List Nat} {a n : Nat} (h : a + n ≤ L.length) : ∃ p R z, L = p ++ (R ++ z) ∧ p.length = a ∧ R.length = n :=
  ⟨L.take a, (L.drop a).take n, (L.drop a).drop n, by rw [List.take_append_drop, List.take_append_drop], by rw [List.length_take]; omega, by rw [List.length_take, List.length_drop]; omega⟩

theorem first_step {L L0 : List Nat} {t a n : Nat} (hA : Arr cls L L0) (hU : upto cls 20 t L) (ha : a = t * 20) (hn : n = 20 ∨ (a + n = L.length ∧ n ≤ 20)) (hl : a + n ≤ L.length) :
    ∃ p R z, L = p ++ (R ++ z) ∧ p.length = a ∧ R.length = n ∧ ∀ R', srt cls R' → Arr cls R' R → Arr cls (p ++ (R' ++ z)) L0 ∧ upto cls 20 (t + 1) (p ++ (R' ++ z)) := by
  obtain ⟨p, R, z, rfl, hp, hR⟩ := split_at hl
  refine ⟨p, R, z, rfl, hp, hR, fun R' hs hR' => ⟨((Arr.refl cls p).app (hR'.app (Arr.refl cls z))).trans hA, ?_⟩⟩
  have hlen := hR'.len
  rw [← List.append_assoc] at hU ⊢
  refine upto_step hU (hp.trans ha) ?_ hs
  rcases hn with hn | ⟨hn, h20⟩
  · exact .inl (by omega)
  · refine .inr ⟨List.eq_nil_of_length_eq_zero ?_, by omega⟩
    rw [List.length_append, List.length_append] at hn
    omega

theorem merge_step {L L0 : List Nat} {bs t a nb : Nat} (hA : Arr cls L L0) (hU : upto cls (2 * bs) t L) (hB : blk cls bs (2 * t) L) (ha : a = t * (2 * bs)) (hn : nb = bs ∨ (a + bs + nb = L.length ∧ nb ≤ bs)) (hl : a + bs + nb ≤ L.length) :
    ∃ p A B z, L = p ++ (A ++ (B ++ z)) ∧ p.length = a ∧ A.length = bs ∧ B.length = nb ∧ srt cls A ∧ srt cls B ∧
      ∀ R, Mg cls A B R → Arr cls (p ++ (R ++ z)) L0 ∧ upto cls (2 * bs) (t + 1) (p ++ (R ++ z)) ∧ blk cls bs (2 * (t + 1)) (p ++ (R ++ z)) := by
  obtain ⟨p, R0, z, rfl, hp, hR⟩ := split_at (a := a) (n := bs + nb) (show a + (bs + nb) ≤ L.length by omega)
  obtain ⟨y, A, B, hAB, hy, hAl⟩ := split_at (L := R0) (a := 0) (n := bs) (by omega)
  obtain rfl := List.eq_nil_of_length_eq_zero hy
  rw [List.nil_append] at hAB
  subst hAB
  have hBl : B.length = nb := by rw [List.length_append] at hR; omega
  have e1 : 2 * t * bs = p.length := by rw [hp, ha, Nat.mul_comm 2 t, Nat.mul_assoc]
  have e2 : (2 * t + 1) * bs = p.length + bs := by rw [Nat.add_mul, e1, Nat.one_mul]
  have sA : srt cls A := by
    have := hB (2 * t) (Nat.le_refl _)
    rw [e1, drop_right (Nat.le_refl _), Nat.sub_self, List.drop_zero, List.append_assoc, List.take_append_of_le_length (by omega), List.take_of_length_le (by omega)] at this
    exact this
  have sB : srt cls B := by
    have := hB (2 * t + 1) (by omega)
    rw [e2, drop_right (by omega), show p.length + bs - p.length = bs by omega, List.append_assoc, drop_right (by omega), show bs - A.length = 0 by omega, List.drop_zero] at this
    rcases hn with hn | ⟨hn, h20⟩
    · rw [List.take_append_of_le_length (by omega), List.take_of_length_le (by omega)] at this
      exact this
    · have hz : z = [] := List.eq_nil_of_length_eq_zero (by simp only [List.length_append] at hn; omega)
      rw [hz, List.append_nil, List.take_of_length_le (by omega)] at this
      exact this
  refine ⟨p, A, B, z, by rw [List.append_assoc], hp, hAl, hBl, sA, sB, fun R hM => ?_⟩
  have hlen := hM.2.len
  rw [List.length_append] at hlen
  rw [← List.append_assoc] at hU hB ⊢
  refine ⟨?_, ?_, ?_⟩
  · have := (((Arr.refl cls p).app hM.2).app (Arr.refl cls z))
    refine this.trans ?_
    rwa [List.append_assoc]
  · refine upto_step hU (hp.trans ha) ?_ hM.1
    rcases hn with hn | ⟨hn, h20⟩
    · exact .inl (by omega)
    · refine .inr ⟨List.eq_nil_of_length_eq_zero ?_, by omega⟩
      simp only [List.length_append] at hn
      omega
  · rcases hn with hn | ⟨hn, h20⟩
    · refine blk_step hB (by omega) (by rw [List.length_append]; omega) ?_
      rw [List.length_append, show 2 * (t + 1) = 2 * t + 1 + 1 by omega, Nat.add_mul, e2, Nat.one_mul]
      omega
    · intro k hk
      have : p.length + bs + bs ≤ k * bs := by
        have := Nat.mul_le_mul_right bs hk
        rw [show 2 * (t + 1) = 2 * t + 1 + 1 by omega, Nat.add_mul, e2, Nat.one_mul] at this
        exact this
      simp only [List.length_append] at hn
      rw [List.drop_of_length_le (by simp only [List.length_append]; omega), List.take_nil]
      exact srt_nil

theorem rest_step {L : List Nat} {bs t : Nat} (hU : upto cls (2 * bs) t L) (hB : blk cls bs (2 * t) L) (hl : L.length ≤ t * (2 * bs) + bs) : upto cls (2 * bs) (t + 1) L := by
  intro k hk
  by_cases e : k < t
  · exact hU k e
  · obtain rfl : k = t := by omega
    have := hB (2 * k) (Nat.le_refl _)
    rw [show 2 * k * bs = k * (2 * bs) by rw [Nat.mul_comm 2 k, Nat.mul_assoc], List.take_of_length_le (by rw [List.length_drop]; omega)] at this
    rw [List.take_of_length_le (by rw [List.length_drop]; omega)]
    exact this
theorem all_step {L : List Nat} {bs t : Nat} (hU : upto cls (2 * bs) (t + 1) L) (hl : L.length ≤ t * (2 * bs) + 2 * bs) : blk cls (bs * 2) 0 L := by
  rw [Nat.mul_comm bs 2]
  exact blk_of_upto hU (by rw [Nat.add_mul, Nat.one_mul]; exact hl)
theorem upto_none {L : List Nat} {bs : Nat} : upto cls bs 0 L := fun _ h => absurd h (Nat.not_lt_zero _)
theorem blk_twice {L : List Nat} {bs : Nat} (h : blk cls bs 0 L) : blk cls bs (2 * 0) L := h
end plain

variable {W : World} {g N D : Nat} {P S : List Nat} {c : FuncId} {cb : Value} {cls : Nat → Nat} {r : Nat → Nat → Int}

set_option maxRecDepth 100000 in
set_option maxHeartbeats 6400000 in
theorem stable_fn (K : CmpOk c cb W N cls r) (L : List Nat) (o len cap : Nat) (w : World) (h : Pat W g N D P S L w) (ho : o = P.length) (hlen : len = L.length) (hN : N ≤ 1000000000) :
    Calls Try.prog 25 #[.slice (some ⟨g, o, none⟩) len cap, .int .i64 (len : Int), .func (.func c) #[] #[cb]] w fun e w' => e = .returned (.tuple #[]) ∧ ∃ R, srt cls R ∧ Arr cls R L ∧ Pat W g N D P S R w' := by
  have hlt := h.lt
  have hlN : len ≤ N := by omega
  have hlB : len ≤ 1000000000 := by omega
  have H := Lib.hid h
  have HLEN := Lib.hid hlen
  have CI := Lib.hid (fun (X R Z : List Nat) (a b : Nat) w' (h : Pat W g N D P S (X ++ (R ++ Z)) w') (e : len = (X ++ (R ++ Z)).length) (ha : a = X.length) (hb : b = a + R.length) => insertion_run K X R Z o len cap a b w' h ho e ha hb (by omega))
  have CM := Lib.hid (fun (X A B Z : List Nat) (a m b : Nat) w' (h : Pat W g N D P S (X ++ (A ++ (B ++ Z))) w') (e : len = (X ++ (A ++ (B ++ Z))).length) (ha : a = X.length) (hm : m = a + A.length) (hb : b = m + B.length) (hA : 0 < A.length) (hB : 0 < B.length) (sA : srt cls A) (sB : srt cls B) =>
    sym_all K o len cap ho (by omega) (A.length + B.length + 1) X A B Z a m b w' (Nat.lt_succ_self _) h e ha hm hb hA hB sA sB)
  clear h ho hlen hlt K hN hlN
  go_enter Try.func25, Try.ntmps25
  go_wp2_with fail
  go_loopw [7, 8] (fun i j wr => ∃ (t a : Nat) (L1 : List Nat), i = .int .i64 (a : Int) ∧ j = .int .i64 ((a : Int) + 20) ∧ a ≤ len ∧ Hid (a = t * 20) ∧ Hid (L1.length = len) ∧ Hid (Arr cls L1 L) ∧ Hid (upto cls 20 t L1) ∧ Hid (Pat W g N D P S L1 wr)) (fun i _ _ => len + 20 - (intOf i).toNat)
  case atStart => exact ⟨0, 0, L, rfl, rfl, Nat.zero_le _, Lib.hid rfl, Lib.hid HLEN.out.symm, Lib.hid (Arr.refl _ _), Lib.hid upto_none, H⟩
  case round =>
    obtain ⟨t, a, L1, rfl, rfl, hal, ha, hl1, hArr, hU, hat⟩ := hrel
    clear H
    by_cases hab : a + 20 ≤ len
    · obtain ⟨p, R, z, rfl, hp, hR, hnext⟩ := first_step (n := 20) hArr.out hU.out ha.out (.inl rfl) (by rw [hl1.out]; exact hab)
      have hdl : decide ((a : Int) + 20 ≤ (len : Int)) = true := decide_eq_true (by omega)
      have HP := Lib.hid hp
      have HR := Lib.hid hR
      have HX := Lib.hid hnext
      clear hp hR hnext
      go_wp2_with fail
      refine (CI.out p R z a (a + 20) _ hat.out hl1.out.symm HP.out.symm (by rw [HR.out])).mono ?_
      rintro e w2 ⟨rfl, R', hs, hA2, h2⟩
      have H2 := Lib.hid h2
      have HL2 := Lib.hid hA2.len
      have HX2 := Lib.hid (HX.out R' hs hA2)
      clear h2 hs hA2 hat
      go_wp2_with fail
      go_roundw
      case rel =>
        refine ⟨t + 1, a + 20, p ++ (R' ++ z), by go_num, by go_num, hab, Lib.hid (by have := ha.out; omega), Lib.hid ?_, Lib.hid HX2.out.1, Lib.hid HX2.out.2, H2⟩
        have h1 := hl1.out
        have h2 := HL2.out
        simp only [List.length_append] at h1 ⊢
        omega
      case measure => simp [intOf] <;> omega
    · obtain ⟨p, R, z, rfl, hp, hR, hnext⟩ := first_step (n := len - a) hArr.out hU.out ha.out (.inr ⟨by rw [hl1.out]; omega, by omega⟩) (by rw [hl1.out]; omega)
      have hdl : decide ((a : Int) + 20 ≤ (len : Int)) = false := decide_eq_false (by omega)
      have HP := Lib.hid hp
      have HR := Lib.hid hR
      have HX := Lib.hid hnext
      have HTL := Lib.hid (show len ≤ (t + 1) * 20 by have := ha.out; omega)
      clear hp hR hnext ha hab
      go_wp2_with fail
      refine (CI.out p R z a len _ hat.out hl1.out.symm HP.out.symm (by rw [HR.out]; omega)).mono ?_
      rintro e w2 ⟨rfl, R', hs, hA2, h2⟩
      obtain ⟨hA3, hU3⟩ := HX.out R' hs hA2
      have hl3 : (p ++ (R' ++ z)).length = len := by
        have h1 := hl1.out
        have h2 := hA2.len
        simp only [List.length_append] at h1 ⊢
        omega
      have hB3 : blk cls 20 0 (p ++ (R' ++ z)) := blk_of_upto hU3 (by rw [hl3]; exact HTL.out)
      generalize p ++ (R' ++ z) = L2 at *
      have H2 := Lib.hid h2
      have HL3 := Lib.hid hl3
      have HA3 := Lib.hid hA3
      have HB3 := Lib.hid hB3
      clear h2 hl3 hA3 hU3 hB3 hs hA2 hat HX HP HR hl1 hArr hU HTL
      go_wp2_with fail
      rename World => wo
      go_loopw [6, 7, 8] (fun k i j wr => ∃ (bs i0 j0 : Nat) (L1 : List Nat), k = .int .i64 (bs : Int) ∧ i = .int .i64 (i0 : Int) ∧ j = .int .i64 (j0 : Int) ∧ 20 ≤ bs ∧ bs ≤ 2 * len + 20 ∧ Hid (L1.length = len) ∧ Hid (Arr cls L1 L) ∧ Hid (blk cls bs 0 L1) ∧ Hid (Pat W g N D P S L1 wr)) (fun k _ _ _ => len - (intOf k).toNat)
      case atStart => exact ⟨20, a, a + 20, L2, rfl, rfl, by go_num, Nat.le_refl _, by omega, HL3, HA3, HB3, H2⟩
      case round =>
        obtain ⟨bs, i0, j0, L3, rfl, rfl, rfl, hb20, hbl, hl3, hArr, hB, hat⟩ := hrel
        clear H2 HL3 HA3 HB3
        by_cases hbn : bs < len
        · go_wp2_with fail
          rename World => wo2
          go_loopw [7, 8] (fun i j wr => ∃ (t a b : Nat) (L1 : List Nat), i = .int .i64 (a : Int) ∧ j = .int .i64 (b : Int) ∧ a ≤ len ∧ b ≤ a + 2 * bs ∧ a + 2 * bs ≤ b ∧ Hid (a = t * (2 * bs)) ∧ Hid (L1.length = len) ∧ Hid (Arr cls L1 L) ∧ Hid (upto cls (2 * bs) t L1) ∧ Hid (blk cls bs (2 * t) L1) ∧ Hid (Pat W g N D P S L1 wr)) (fun i _ _ => len + 20 - (intOf i).toNat)
          case atStart => exact ⟨0, 0, 2 * bs, L3, rfl, by go_num, Nat.zero_le _, by omega, by omega, Lib.hid (by rw [Nat.zero_mul]), hl3, hArr, Lib.hid upto_none, Lib.hid (blk_twice hB.out), hat⟩
          case round =>
            obtain ⟨t, a, b, L4, rfl, rfl, hal, hb1, hb2, ha, hl4, hArr4, hU4, hB4, hat4⟩ := hrel
            clear hat hArr hB
            obtain ⟨m, hm⟩ : ∃ m, m = a + bs := ⟨_, rfl⟩
            have hmi : (a : Int) + (bs : Int) = (m : Int) := by omega
            have hm1 : m ≤ a + bs := by omega
            have hm2 : a + bs ≤ m := by omega
            have HM := Lib.hid hm
            clear hm
            by_cases hbn2 : b ≤ len
            · obtain ⟨p, A, B, z, rfl, hp, hAl, hBl, sA, sB, hnext⟩ := merge_step (nb := bs) hArr4.out hU4.out hB4.out ha.out (.inl rfl) (by rw [hl4.out]; omega)
              have C := Lib.hid (CM.out p A B z a m b _ hat4.out hl4.out.symm hp.symm (by rw [hAl]; exact HM.out) (by omega) (by omega) (by omega) sA sB)
              have HX := Lib.hid hnext
              have HPL := Lib.hid (And.intro hp (And.intro hAl hBl))
              obtain ⟨b', hb'⟩ : ∃ b', b' = b + 2 * bs := ⟨_, rfl⟩
              have hbi : (b : Int) + 2 * (bs : Int) = (b' : Int) := by omega
              have hb1' : b' ≤ b + 2 * bs := by omega
              have hb2' : b + 2 * bs ≤ b' := by omega
              clear hp hAl hBl hnext hb' sA sB hat4
              go_wp2_with fail
              refine C.out.mono ?_
              rintro e w2 ⟨rfl, R', hM, h2⟩
              have H2 := Lib.hid h2
              have HL2 := Lib.hid hM.2.len
              have HX2 := Lib.hid (HX.out R' hM)
              clear h2 hM
              go_wp2_with fail
              go_roundw
              case rel =>
                refine ⟨t + 1, b, b', p ++ (R' ++ z), rfl, by go_num, hbn2, hb1', hb2', Lib.hid ?_, Lib.hid ?_, Lib.hid HX2.out.1, Lib.hid HX2.out.2.1, Lib.hid HX2.out.2.2, H2⟩
                · have := ha.out
                  rw [Nat.add_mul, Nat.one_mul]
                  omega
                · have h1 := hl4.out
                  have h2 := HL2.out
                  simp only [List.length_append] at h1 h2 ⊢
                  omega
              case measure => simp [intOf] <;> omega
            · by_cases hmn : m < len
              · obtain ⟨p, A, B, z, rfl, hp, hAl, hBl, sA, sB, hnext⟩ := merge_step (nb := len - m) hArr4.out hU4.out hB4.out ha.out (.inr ⟨by rw [hl4.out]; omega, by omega⟩) (by rw [hl4.out]; omega)
                have C := Lib.hid (CM.out p A B z a m len _ hat4.out hl4.out.symm hp.symm (by rw [hAl]; exact HM.out) (by omega) (by omega) (by omega) sA sB)
                have HX := Lib.hid hnext
                clear hp hAl hBl hnext sA sB hat4
                go_wp2_with fail
                refine C.out.mono ?_
                rintro e w2 ⟨rfl, R', hM, h2⟩
                have H2 := Lib.hid h2
                have HL2 := Lib.hid hM.2.len
                have HX2 := Lib.hid (HX.out R' hM)
                clear h2 hM
                go_wp2_with fail
                go_roundw
                case rel =>
                  refine ⟨bs * 2, a, b, p ++ (R' ++ z), by go_num, rfl, rfl, by omega, by omega, Lib.hid ?_, Lib.hid HX2.out.1, Lib.hid (all_step (t := t) HX2.out.2.1 ?_), H2⟩
                  · have h1 := hl4.out
                    have h2 := HL2.out
                    simp only [List.length_append] at h1 h2 ⊢
                    omega
                  · have h1 := hl4.out
                    have h2 := HL2.out
                    rw [← ha.out]
                    simp only [List.length_append] at h1 h2 ⊢
                    omega
                case measure => simp [intOf] <;> omega
              · go_wp2_with fail
                go_roundw
                case rel =>
                  refine ⟨bs * 2, a, b, L4, by go_num, rfl, rfl, by omega, by omega, hl4, hArr4, Lib.hid (all_step (t := t) (rest_step hU4.out hB4.out ?_) ?_), hat4⟩
                  · rw [← ha.out, hl4.out]; omega
                  · rw [← ha.out, hl4.out]; omega
                case measure => simp [intOf] <;> omega
        · go_wp2_with fail
          go_end0
          exact ⟨rfl, L3, blk_all hB.out (by rw [hl3.out]; omega), hArr.out, hat.out⟩

set_option maxRecDepth 100000 in
theorem sort_fn (K : CmpOk c cb W N cls r) (L : List Nat) (o len cap : Nat) (w : World) (h : Pat W g N D P S L w) (ho : o = P.length) (hlen : len = L.length) (hN : N ≤ 1000000000) :
    Calls Try.prog 19 #[.slice (some ⟨g, o, none⟩) len cap, .func (.func c) #[] #[cb]] w fun e w' => e = .returned (.tuple #[]) ∧ ∃ R, srt cls R ∧ Arr cls R L ∧ Pat W g N D P S R w' := by
  have C := Lib.hid (stable_fn K L o len cap w h ho hlen hN)
  clear h ho hlen K hN
  go_enter Try.func19, Try.ntmps19
  go_wp2_with fail
  refine C.out.mono ?_
  rintro e w2 ⟨rfl, h2⟩
  go_wp2_with fail
  go_end0
  exact ⟨rfl, h2⟩

end Go.Proofs.Ythkbjbbffkgpfaa
