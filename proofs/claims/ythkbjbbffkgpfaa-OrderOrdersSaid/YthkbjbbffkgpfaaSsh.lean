/- slices.SortStableFunc: two runs are merged, the general case: the walk. -/
import Derived.Test.YthkbjbbffkgpfaaSsg
namespace Go.Proofs.Ythkbjbbffkgpfaa
open Go.RowKit Go.Proofs.Ythkbjbbffkgpfaa.Stb
variable {W : World} {g N D : Nat} {P S : List Nat} {c : FuncId} {cb : Value} {cls : Nat → Nat} {r : Nat → Nat → Int}

/-- What merging is to do, of runs of at most so many. -/
def SymOk (W : World) (g N D : Nat) (P S : List Nat) (c : FuncId) (cb : Value) (cls : Nat → Nat) (o len cap sz : Nat) : Prop :=
  ∀ (X A B Z : List Nat) (a m b : Nat) (w : World), A.length + B.length < sz → Pat W g N D P S (X ++ (A ++ (B ++ Z))) w → len = (X ++ (A ++ (B ++ Z))).length → a = X.length → m = a + A.length → b = m + B.length → 0 < A.length → 0 < B.length → srt cls A → srt cls B →
    Calls Try.prog 32 #[.slice (some ⟨g, o, none⟩) len cap, .int .i64 (a : Int), .int .i64 (m : Int), .int .i64 (b : Int), .func (.func c) #[] #[cb]] w fun e w' => e = .returned (.tuple #[]) ∧ ∃ R, Mg cls A B R ∧ Pat W g N D P S (X ++ (R ++ Z)) w'

/-- Between two rounds of the search. -/
def SymI (W : World) (g N D : Nat) (P S : List Nat) (cls : Nat → Nat) (X A B Z : List Nat) (a p lo hi : Nat) (s0 r0 : Value) (wr : World) : Prop :=
  ∃ s q : Nat, s0 = .int .i64 (s : Int) ∧ r0 = .int .i64 (q : Int) ∧ lo ≤ s ∧ s ≤ q ∧ q ≤ hi ∧ Hid (∀ k, lo ≤ k → k < s → cls ((A ++ B).getD (k - a) 0) ≤ cls ((A ++ B).getD (p + 1 - 1 - k - a) 0)) ∧ Hid (∀ k, q ≤ k → k < hi → cls ((A ++ B).getD (p + 1 - 1 - k - a) 0) < cls ((A ++ B).getD (k - a) 0)) ∧ Hid (Pat W g N D P S (X ++ ((A ++ B) ++ Z)) wr)

theorem sym_mono {A B : List Nat} {a m b : Nat} (hm : m = a + A.length) (hb : b = m + B.length) (ha : srt cls A) (hB : srt cls B) :
    (∀ i j, a ≤ i → i ≤ j → j < m → cls ((A ++ B).getD (i - a) 0) ≤ cls ((A ++ B).getD (j - a) 0)) ∧ ∀ i j, m ≤ i → i ≤ j → j < b → cls ((A ++ B).getD (i - a) 0) ≤ cls ((A ++ B).getD (j - a) 0) := by
  have getA : ∀ k (h : k - a < A.length), (A ++ B).getD (k - a) 0 = A[k - a] := fun k h => by
    rw [List.getD_eq_getElem?_getD, List.getElem?_append_left h, List.getElem?_eq_getElem h]; rfl
  have getB : ∀ k (h0 : m ≤ k) (h : k - m < B.length), (A ++ B).getD (k - a) 0 = B[k - m] := fun k h0 h => by
    rw [List.getD_eq_getElem?_getD, List.getElem?_append_right (by omega), show k - a - A.length = k - m by omega, List.getElem?_eq_getElem h]; rfl
  constructor
  · intro i j h1 h2 h3
    rw [getA i (by omega), getA j (by omega)]
    exact srt_get ha (by omega) (by omega)
  · intro i j h1 h2 h3
    rw [getB i (by omega) (by omega), getB j (by omega) (by omega)]
    exact srt_get hB (by omega) (by omega)

set_option maxRecDepth 100000 in
set_option maxHeartbeats 6400000 in
theorem merge_gen (K : CmpOk c cb W N cls r) (o len cap sz : Nat) (IH : SymOk W g N D P S c cb cls o len cap sz) (ho : o = P.length) (hN : N ≤ 4611686018427387904)
    (X A B Z : List Nat) (a m b : Nat) (w : World) (hsz : A.length + B.length = sz) (h : Pat W g N D P S (X ++ (A ++ (B ++ Z))) w) (hlen : len = (X ++ (A ++ (B ++ Z))).length)
    (ha : a = X.length) (hm : m = a + A.length) (hb : b = m + B.length) (hA : 1 < A.length) (hB : 1 < B.length) (hsA : srt cls A) (hsB : srt cls B) :
    Calls Try.prog 32 #[.slice (some ⟨g, o, none⟩) len cap, .int .i64 (a : Int), .int .i64 (m : Int), .int .i64 (b : Int), .func (.func c) #[] #[cb]] w fun e w' => e = .returned (.tuple #[]) ∧ ∃ R, Mg cls A B R ∧ Pat W g N D P S (X ++ (R ++ Z)) w' := by
  have hlt := h.lt
  have hlN : P.length + len ≤ N := by rw [hlen]; exact hlt
  have hll : len = b + Z.length := by rw [hlen, hb, hm, ha]; simp; omega
  have hoN : o + len ≤ 4611686018427387904 := by omega
  have hbl : b ≤ len := by omega
  have ham : a + 1 < m := by omega
  have hmb : m + 1 < b := by omega
  have hn1 : ((m : Int) - (a : Int) == 1) = false := beq_eq_false_iff_ne.2 (by omega)
  have hn2 : ((b : Int) - (m : Int) == 1) = false := beq_eq_false_iff_ne.2 (by omega)
  obtain ⟨mid, hmid⟩ : ∃ mid, mid = (a + b) / 2 := ⟨_, rfl⟩
  have hmi : ((a : Int) + (b : Int)) / 2 = (mid : Int) := by omega
  obtain ⟨p, hp⟩ : ∃ p, mid + m = p + 1 := ⟨mid + m - 1, by omega⟩
  have hnn : (mid : Int) + (m : Int) = (p : Int) + 1 := by omega
  have hpp : IntKind.i64.wrap (p : Int) = (p : Int) := IntWalk.i64_in _ (by omega)
  obtain ⟨lo, hi, hcase, hlo1⟩ : ∃ lo hi : Nat, ((mid < m ∧ lo + b = p + 1 ∧ hi = mid) ∨ (m ≤ mid ∧ lo = a ∧ hi = m)) ∧ lo ≤ hi := by
    by_cases h : mid < m
    · exact ⟨p + 1 - b, mid, .inl ⟨h, by omega, rfl⟩, by omega⟩
    · exact ⟨a, m, .inr ⟨by omega, rfl, rfl⟩, by omega⟩
  have F := Lib.hid (fun s h1 h2 hl hg => sym_found (cls := cls) (A := A) (B := B) (a := a) (m := m) (b := b) (mid := mid) (n := p + 1) (lo := lo) (hi := hi) (s := s) hm hb hmid hp.symm hcase h1 h2 hl hg hsA hsB)
  have HIN := Lib.hid (fun k (h1 : lo ≤ k) (h2 : k < hi) => show a ≤ k ∧ k < m ∧ k ≤ p ∧ m ≤ p - k ∧ p - k < b from by omega)
  have HI2 := Lib.hid (show lo ≤ hi ∧ a ≤ lo ∧ hi ≤ m ∧ b ≤ p + 1 - lo + (p + 1) ∧ hi ≤ p + 1 from by omega)
  have HCS := Lib.hid (show (mid < m ∧ lo + b = p + 1 ∧ hi = mid) ∨ (m ≤ mid ∧ lo = a ∧ hi = m) from hcase)
  have MO := Lib.hid (sym_mono (cls := cls) hm hb hsA hsB)
  have HCELL := Lib.hid (fun k w' (hat : Pat W g N D P S (X ++ ((A ++ B) ++ Z)) w') (h1 : a ≤ k) (h2 : k < b) => show w'.cell? ⟨g, o + k, none⟩ = some (.int .i64 (((A ++ B).getD (k - a) 0 : Nat) : Int)) from hat.at_ (t := k - a) (by rw [List.length_append]; omega) (by omega))
  have H := Lib.hid h
  have Ho := Lib.hid ho
  have Ha := Lib.hid ha
  have Hm := Lib.hid hm
  have Hb := Lib.hid hb
  have Hmid := Lib.hid hmid
  have Hp := Lib.hid hp
  have HE := Lib.hid K.enter
  have HC := Lib.hid K.call
  have HL := Lib.hid K.less
  have HIH := Lib.hid IH
  have HSZ := Lib.hid hsz
  have HLEN := Lib.hid (show len = X.length + A.length + B.length + Z.length by omega)
  have hmidb : mid ≤ b := by omega
  have hpb : p + 1 ≤ b + b := by omega
  have hpa : m ≤ p := by omega
  have hps : p < 9223372036854775807 := by omega
  have hsAB := Lib.hid (And.intro hsA hsB)
  clear h ho ha hb hlen hll hlN hlt K hm hA hB hmid hp IH hsz hsA hsB
  go_enter Try.func32, Try.ntmps32
  rcases hcase with ⟨q1, q2, q3⟩ | ⟨q1, q2, q3⟩
  case' inl =>
    have q4 : (p : Int) + 1 - (b : Int) = (lo : Int) := by omega
    have Q3 := Lib.hid q3
    have q5 : decide (mid < m) = true := decide_eq_true (by omega)
    clear q2 q3
  case' inr =>
    have q5 : decide (mid < m) = false := decide_eq_false (by omega)
    have Q2 := Lib.hid q2
    have Q3 := Lib.hid q3
    clear q2 q3
  all_goals
    go_wp2_with fail
    clear hmi
    go_loopw [20, 21] (fun s0 r0 wr => SymI W g N D P S cls X A B Z a p lo hi s0 r0 wr) (fun s0 r0 _ => (intOf r0).toNat - (intOf s0).toNat)
    case atStart => exact ⟨lo, hi, by first | rfl | rw [Q2.out], by rw [Q3.out], Nat.le_refl _, hlo1, Nat.le_refl _, Lib.hid (fun k h1 h2 => by omega), Lib.hid (fun k h1 h2 => by omega), Lib.hid (by have := H.out; simpa using this)⟩
    case round =>
      obtain ⟨s, q, rfl, rfl, hs1, hs2, hs3, hl, hg, hat⟩ := hrel
      clear H
      by_cases hsq : s < q
      · obtain ⟨cc, he, hc1, hc2⟩ : ∃ cc : Nat, ((s : Int) + (q : Int)) / 2 = (cc : Int) ∧ s ≤ cc ∧ cc < q := ⟨(s + q) / 2, by omega, by omega, by omega⟩
        obtain ⟨z1, z2, z3, z4, z5⟩ := HIN.out cc (by omega) (by omega)
        obtain ⟨d, hd⟩ : ∃ d, p - cc = d := ⟨_, rfl⟩
        rw [hd] at z4 z5
        have hdi : (p : Int) - (cc : Int) = (d : Int) := by omega
        have hdn : p + 1 - 1 - cc - a = d - a := by omega
        obtain ⟨x, hx⟩ : ∃ x, (A ++ B).getD (d - a) 0 = x := ⟨_, rfl⟩
        obtain ⟨y, hy⟩ : ∃ y, (A ++ B).getD (cc - a) 0 = y := ⟨_, rfl⟩
        have CF := Lib.hid (fun w' (u : Up wr w') => show w'.cell? ⟨g, o + d, none⟩ = some (.int .i64 (x : Int)) ∧ w'.cell? ⟨g, o + cc, none⟩ = some (.int .i64 (y : Int)) from
          ⟨by rw [← hx]; exact HCELL.out d w' (hat.out.go u) (by omega) z5, by rw [← hy]; exact HCELL.out cc w' (hat.out.go u) z1 (by omega)⟩)
        have hdl : d < len := by omega
        have hwd : IntKind.i64.wrap (d : Int) = (d : Int) := IntWalk.i64_in _ (by omega)
        have hcl : cc < len := by omega
        have hen := HE.out
        have HX := Lib.hid hx
        have HY := Lib.hid hy
        have HDN := Lib.hid hdn
        have HD := Lib.hid hd
        clear hx hy hdn hd
        go_wp2_with fail
        refine wp_region_pi [(0, false), (1, false), (2, false), (3, false), (4, false), (5, false), (6, false), (7, false), (8, false), (9, false), (10, false), (11, true), (12, false), (13, false)] (by kernel_rfl) (by kernel_rfl) (fun _ _ d _ _ h => by cases d <;> exact h) ?_
        ((with_reducible apply pi_take); (focus exact rfl); (focus exact rfl); (focus (intro w' u1; obtain ⟨cc1, cc2⟩ := CF.out w' (Up.of_drew u1); go_simp; try with_reducible rfl; done)); dsimp only [Act.put]; simp only [List.setIfInBounds_toArray, List.set_cons_succ, List.set_cons_zero])
        ((with_reducible apply pi_take); (focus exact rfl); (focus exact rfl); (focus (intro w' u1; obtain ⟨cc1, cc2⟩ := CF.out w' (Up.of_drew u1); go_simp; try with_reducible rfl; done)); dsimp only [Act.put]; simp only [List.setIfInBounds_toArray, List.set_cons_succ, List.set_cons_zero])
        ((with_reducible apply pi_take); (focus exact rfl); (focus exact rfl); (focus (intro w' u1; obtain ⟨cc1, cc2⟩ := CF.out w' (Up.of_drew u1); go_simp; try with_reducible rfl; done)); dsimp only [Act.put]; simp only [List.setIfInBounds_toArray, List.set_cons_succ, List.set_cons_zero])
        ((with_reducible apply pi_take); (focus exact rfl); (focus exact rfl); (focus (intro w' u1; obtain ⟨cc1, cc2⟩ := CF.out w' (Up.of_drew u1); go_simp; try with_reducible rfl; done)); dsimp only [Act.put]; simp only [List.setIfInBounds_toArray, List.set_cons_succ, List.set_cons_zero])
        ((with_reducible apply pi_take); (focus exact rfl); (focus exact rfl); (focus (intro w' u1; obtain ⟨cc1, cc2⟩ := CF.out w' (Up.of_drew u1); go_simp; try with_reducible rfl; done)); dsimp only [Act.put]; simp only [List.setIfInBounds_toArray, List.set_cons_succ, List.set_cons_zero])
        ((with_reducible apply pi_take); (focus exact rfl); (focus exact rfl); (focus (intro w' u1; obtain ⟨cc1, cc2⟩ := CF.out w' (Up.of_drew u1); go_simp; try with_reducible rfl; done)); dsimp only [Act.put]; simp only [List.setIfInBounds_toArray, List.set_cons_succ, List.set_cons_zero])
        ((with_reducible apply pi_take); (focus exact rfl); (focus exact rfl); (focus (intro w' u1; obtain ⟨cc1, cc2⟩ := CF.out w' (Up.of_drew u1); go_simp; try with_reducible rfl; done)); dsimp only [Act.put]; simp only [List.setIfInBounds_toArray, List.set_cons_succ, List.set_cons_zero])
        ((with_reducible apply pi_take); (focus exact rfl); (focus exact rfl); (focus (intro w' u1; obtain ⟨cc1, cc2⟩ := CF.out w' (Up.of_drew u1); go_simp; try with_reducible rfl; done)); dsimp only [Act.put]; simp only [List.setIfInBounds_toArray, List.set_cons_succ, List.set_cons_zero])
        ((with_reducible apply pi_take); (focus exact rfl); (focus exact rfl); (focus (intro w' u1; obtain ⟨cc1, cc2⟩ := CF.out w' (Up.of_drew u1); go_simp; try with_reducible rfl; done)); dsimp only [Act.put]; simp only [List.setIfInBounds_toArray, List.set_cons_succ, List.set_cons_zero])
        ((with_reducible apply pi_take); (focus exact rfl); (focus exact rfl); (focus (intro w' u1; obtain ⟨cc1, cc2⟩ := CF.out w' (Up.of_drew u1); go_simp; try with_reducible rfl; done)); dsimp only [Act.put]; simp only [List.setIfInBounds_toArray, List.set_cons_succ, List.set_cons_zero])
        ((with_reducible apply pi_take); (focus exact rfl); (focus exact rfl); (focus (intro w' u1; obtain ⟨cc1, cc2⟩ := CF.out w' (Up.of_drew u1); go_simp; try with_reducible rfl; done)); dsimp only [Act.put]; simp only [List.setIfInBounds_toArray, List.set_cons_succ, List.set_cons_zero])
        refine pi_make rfl rfl (fun K hK => ?_)
        go_simp
        refine (HC.out x y _ (by rw [← HX.out]; exact hat.out.at_lt (by rw [List.length_append]; have := Hb.out; have := Hm.out; omega)) (by rw [← HY.out]; exact hat.out.at_lt (by rw [List.length_append]; have := Hb.out; have := Hm.out; omega)) (hat.out.up.trans ((Up.refl _).drew))).mono ?_
        rintro e w3 ⟨rfl, hz⟩
        have HT := Lib.hid (hat.out.go (Up.of_drew hz))
        refine hK.out _ _ hz ?_
        clear hK K hz CF hen
        by_cases hless : cls x < cls y
        · have hr0 : r x y < 0 := (HL.out x y).2 hless
          have hr1 : decide (r x y < 0) = true := decide_eq_true hr0
          ((with_reducible apply pi_take); (focus exact rfl); (focus exact rfl); (focus (intro w' u1; go_simp; try with_reducible rfl; done)); dsimp only [Act.put]; simp only [List.setIfInBounds_toArray, List.set_cons_succ, List.set_cons_zero])
          ((with_reducible apply pi_take); (focus exact rfl); (focus exact rfl); (focus (intro w' u1; go_simp; try with_reducible rfl; done)); dsimp only [Act.put]; simp only [List.setIfInBounds_toArray, List.set_cons_succ, List.set_cons_zero])
          refine pi_done ?_
          go_wp2_with fail
          go_roundw
          case rel =>
            refine ⟨s, cc, rfl, by go_num, hs1, hc1, by omega, hl, Lib.hid (fun k h1 h2 => ?_), HT⟩
            have k1 := MO.out.1 cc k z1 h1 (by have := HIN.out k (by omega) h2; omega)
            have hk := HIN.out k (by omega) h2
            have hdd := HD.out
            have k2 := MO.out.2 (p - k) d (by omega) (by omega) z5
            rw [HX.out] at k2
            rw [HY.out] at k1
            rw [show p + 1 - 1 - k - a = p - k - a by omega]
            omega
          case measure => simp [intOf] <;> omega
        · have hr0 : ¬ r x y < 0 := fun h => hless ((HL.out x y).1 h)
          have hr1 : decide (r x y < 0) = false := decide_eq_false hr0
          ((with_reducible apply pi_take); (focus exact rfl); (focus exact rfl); (focus (intro w' u1; go_simp; try with_reducible rfl; done)); dsimp only [Act.put]; simp only [List.setIfInBounds_toArray, List.set_cons_succ, List.set_cons_zero])
          ((with_reducible apply pi_take); (focus exact rfl); (focus exact rfl); (focus (intro w' u1; go_simp; try with_reducible rfl; done)); dsimp only [Act.put]; simp only [List.setIfInBounds_toArray, List.set_cons_succ, List.set_cons_zero])
          refine pi_done ?_
          go_wp2_with fail
          go_roundw
          case rel =>
            refine ⟨cc + 1, q, by go_num, rfl, by omega, by omega, hs3, Lib.hid (fun k h1 h2 => ?_), hg, HT⟩
            have hk := HIN.out k h1 (by omega)
            have hdd := HD.out
            have k1 := MO.out.1 k cc (by omega) (by omega) z2
            have k2 := MO.out.2 d (p - k) z4 (by omega) (by omega)
            rw [HX.out] at k2
            rw [HY.out] at k1
            rw [show p + 1 - 1 - k - a = p - k - a by omega]
            omega
          case measure => simp [intOf] <;> omega
      · obtain rfl : s = q := by omega
        obtain ⟨A1, A2, B1, B2, rfl, rfl, eS, eN, hh1, hh2⟩ := F.out s hs1 hs3 hl.out hg.out
        obtain ⟨en, hen⟩ : ∃ en, p + 1 - s = en := ⟨_, rfl⟩
        rw [hen] at eN
        have hei : (p : Int) + 1 - (s : Int) = (en : Int) := by have := HI2.out; omega
        have fm := Hm.out
        have fb := Hb.out
        have fp := Hp.out
        have fa := Ha.out
        have fl := HLEN.out
        have fz := HSZ.out
        have fmm := Hmid.out
        simp only [List.length_append] at fm fb fl fz
        have fmid : mid = s + B1.length := by omega
        have fm' : m = s + A2.length := by omega
        have CR := Lib.hid (fun w' (hat : Pat W g N D P S ((X ++ A1) ++ (A2 ++ (B1 ++ (B2 ++ Z)))) w') (hc : s < m ∧ m < en) => rotate_run (X ++ A1) A2 B1 (B2 ++ Z) o len cap s m en (.func (.func c) #[] #[cb]) w' hat Ho.out (by simp; omega) (by simp; omega) fm' eN (by omega) (by omega) hN)
        have I1 := Lib.hid (fun w' (hat : Pat W g N D P S (X ++ (A1 ++ (B1 ++ (A2 ++ (B2 ++ Z))))) w') (hc : a < s ∧ s < mid) => HIH.out X A1 B1 (A2 ++ (B2 ++ Z)) a s mid w' (by omega) hat (by simp; omega) fa eS fmid (by omega) (by omega) (srt_app.1 hsAB.out.1).1 (srt_app.1 hsAB.out.2).1)
        have N1 := Lib.hid (fun (hc : ¬ (a < s ∧ s < mid)) => show Mg cls A1 B1 (A1 ++ B1) from by
          by_cases h0 : A1.length = 0
          · rw [List.eq_nil_of_length_eq_zero h0]; exact Mg.left_nil (srt_app.1 hsAB.out.2).1
          · rw [List.eq_nil_of_length_eq_zero (show B1.length = 0 by omega), List.append_nil]; exact Mg.right_nil (srt_app.1 hsAB.out.1).1)
        have I2 := Lib.hid (fun (R1 : List Nat) w' (hat : Pat W g N D P S ((X ++ R1) ++ (A2 ++ (B2 ++ Z))) w') (hR : R1.length = A1.length + B1.length) (hc : mid < en ∧ en < b) => HIH.out (X ++ R1) A2 B2 Z mid en b w' (by omega) hat (by simp; omega) (by simp; omega) (by omega) (by omega) (by omega) (by omega) (srt_app.1 hsAB.out.1).2.1 (srt_app.1 hsAB.out.2).2.1)
        have N2 := Lib.hid (fun (hc : ¬ (mid < en ∧ en < b)) => show Mg cls A2 B2 (A2 ++ B2) from by
          by_cases h0 : A2.length = 0
          · rw [List.eq_nil_of_length_eq_zero h0]; exact Mg.left_nil (srt_app.1 hsAB.out.2).2.1
          · rw [List.eq_nil_of_length_eq_zero (show B2.length = 0 by omega), List.append_nil]; exact Mg.right_nil (srt_app.1 hsAB.out.1).2.1)
        have NR := Lib.hid (fun (hc : ¬ (s < m ∧ m < en)) => show X ++ ((A1 ++ A2 ++ (B1 ++ B2)) ++ Z) = X ++ (A1 ++ (B1 ++ (A2 ++ (B2 ++ Z)))) from by
          by_cases h0 : A2.length = 0
          · rw [List.eq_nil_of_length_eq_zero h0]; simp
          · rw [List.eq_nil_of_length_eq_zero (show B1.length = 0 by omega)]; simp)
        have HH1 := Lib.hid hh1
        have HH2 := Lib.hid hh2
        have b1 : en ≤ b := by omega
        have b2 : s ≤ p := by omega
        clear fm fb fp fa fl fz fmid fm' fmm eS eN hen hl hg F MO HCELL hh1 hh2
        by_cases c0 : s < m ∧ m < en
        · have c0a := c0.1
          have c0b := c0.2
          go_wp2_with fail
          all_goals
            refine (CR.out _ (by have := hat.out; simpa using this) c0).mono ?_
            rintro e w4 ⟨rfl, h4⟩
            have AT4 := Lib.hid (show Pat W g N D P S (X ++ (A1 ++ (B1 ++ (A2 ++ (B2 ++ Z))))) w4 from by simpa using h4)
            clear h4 hat
            by_cases c1 : a < s ∧ s < mid
            · have c1a := c1.1
              have c1b := c1.2
              go_wp2_with fail
              all_goals
                refine (I1.out _ (by have := AT4.out; simpa using this) c1).mono ?_
                rintro e w5 ⟨rfl, R1, hM1, h5⟩
                have AT5 := Lib.hid h5
                have M5 := Lib.hid hM1
                clear h5 hM1 AT4
                by_cases c2 : mid < en ∧ en < b
                · have c2a := c2.1
                  have c2b := c2.2
                  go_wp2_with fail
                  all_goals
                    refine (I2.out R1 _ (by have := AT5.out; simpa using this) (by have := M5.out.2.len; simpa using this) c2).mono ?_
                    rintro e w6 ⟨rfl, R2, hM2, h6⟩
                    go_wp2_with fail
                    go_end0
                    exact ⟨rfl, R1 ++ R2, Mg.halves HH1.out HH2.out hsAB.out.1 hsAB.out.2 M5.out hM2, by simpa using h6⟩
                · go_wp2_with fail
                  all_goals
                    go_end0
                    exact ⟨rfl, R1 ++ (A2 ++ B2), Mg.halves HH1.out HH2.out hsAB.out.1 hsAB.out.2 M5.out (N2.out c2), by have := AT5.out; simpa using this⟩
            · have M5 := Lib.hid (N1.out c1)
              by_cases c2 : mid < en ∧ en < b
              · have c2a := c2.1
                have c2b := c2.2
                go_wp2_with fail
                all_goals
                  refine (I2.out (A1 ++ B1) _ (by have := AT4.out; simpa using this) (by simp) c2).mono ?_
                  rintro e w6 ⟨rfl, R2, hM2, h6⟩
                  go_wp2_with fail
                  go_end0
                  exact ⟨rfl, (A1 ++ B1) ++ R2, Mg.halves HH1.out HH2.out hsAB.out.1 hsAB.out.2 M5.out hM2, by simpa using h6⟩
              · go_wp2_with fail
                all_goals
                  go_end0
                  exact ⟨rfl, (A1 ++ B1) ++ (A2 ++ B2), Mg.halves HH1.out HH2.out hsAB.out.1 hsAB.out.2 M5.out (N2.out c2), by have := AT4.out; simpa using this⟩
        · have ATN := Lib.hid (show Pat W g N D P S (X ++ (A1 ++ (B1 ++ (A2 ++ (B2 ++ Z))))) wr from by
            have := hat.out
            rwa [NR.out c0] at this)
          clear hat
          by_cases c1 : a < s ∧ s < mid
          · have c1a := c1.1
            have c1b := c1.2
            go_wp2_with fail
            all_goals
              refine (I1.out _ (by have := ATN.out; simpa using this) c1).mono ?_
              rintro e w5 ⟨rfl, R1, hM1, h5⟩
              have AT5 := Lib.hid h5
              have M5 := Lib.hid hM1
              clear h5 hM1 ATN
              by_cases c2 : mid < en ∧ en < b
              · have c2a := c2.1
                have c2b := c2.2
                go_wp2_with fail
                all_goals
                  refine (I2.out R1 _ (by have := AT5.out; simpa using this) (by have := M5.out.2.len; simpa using this) c2).mono ?_
                  rintro e w6 ⟨rfl, R2, hM2, h6⟩
                  go_wp2_with fail
                  go_end0
                  exact ⟨rfl, R1 ++ R2, Mg.halves HH1.out HH2.out hsAB.out.1 hsAB.out.2 M5.out hM2, by simpa using h6⟩
              · go_wp2_with fail
                all_goals
                  go_end0
                  exact ⟨rfl, R1 ++ (A2 ++ B2), Mg.halves HH1.out HH2.out hsAB.out.1 hsAB.out.2 M5.out (N2.out c2), by have := AT5.out; simpa using this⟩
          · have M5 := Lib.hid (N1.out c1)
            by_cases c2 : mid < en ∧ en < b
            · have c2a := c2.1
              have c2b := c2.2
              go_wp2_with fail
              all_goals
                refine (I2.out (A1 ++ B1) _ (by have := ATN.out; simpa using this) (by simp) c2).mono ?_
                rintro e w6 ⟨rfl, R2, hM2, h6⟩
                go_wp2_with fail
                go_end0
                exact ⟨rfl, (A1 ++ B1) ++ R2, Mg.halves HH1.out HH2.out hsAB.out.1 hsAB.out.2 M5.out hM2, by simpa using h6⟩
            · go_wp2_with fail
              all_goals
                go_end0
                exact ⟨rfl, (A1 ++ B1) ++ (A2 ++ B2), Mg.halves HH1.out HH2.out hsAB.out.1 hsAB.out.2 M5.out (N2.out c2), by have := ATN.out; simpa using this⟩

end Go.Proofs.Ythkbjbbffkgpfaa
