/- The document's syllables: what its functions answer. -/
import Derived.Test.YteimbnkeabgmnaaDoorHgp
import Derived.Test.YteimbnkeabgmnaaDoorPi
import Derived.Lib.Hide
import Derived.OwnWalk
import Derived.Outline
namespace Go.Proofs.YteimbnkeabgmnaaDoor
open Go.RowKit

theorem hg_val {x y : Value} (h : x = y) : Ending.returned x = .returned y := by rw [h]
theorem hg_u32 {a b : Int} (h : a = b) : Value.int .u32 a = .int .u32 b := by rw [h]
theorem hg_bool {a b : Bool} (h : a = b) : Ending.returned (.bool a) = .returned (.bool b) := by rw [h]
theorem hg_2 {a a' : Int} {b b' : Value} (h1 : a = a') (h2 : b = b') : Ending.returned (.tuple #[.int .u32 a, b]) = .returned (.tuple #[.int .u32 a', b']) := by rw [h1, h2]
theorem hg_4 {a b c a' b' c' : Int} {d d' : Bool} (h1 : a = a') (h2 : b = b') (h3 : c = c') (h4 : d = d') :
    Ending.returned (.tuple #[.int .u32 a, .int .u32 b, .int .u32 c, .bool d]) = .returned (.tuple #[.int .u32 a', .int .u32 b', .int .u32 c', .bool d']) := by rw [h1, h2, h3, h4]
theorem results_tmp4 {fn : Func} {t u v x : Tmp} (h : fn.results = #[.tmp t, .tmp u, .tmp v, .tmp x]) (tmps : Array Value) (P : Program) (w : World) :
    (results fn tmps).run P w = .ok (.tuple #[tmps.getD t undef, tmps.getD u undef, tmps.getD v undef, tmps.getD x undef]) w := by simp [results, h]

theorem is_ref4 (c : Nat) (w : World) : Calls Tryd.prog 12 #[.int .u32 (c : Int)] w fun e w' => e = .returned (.bool (isS c)) ∧ w = w' := by
  go_enter Tryd.func12, Tryd.ntmps12
  go_wp2
  all_goals (go_ret; exact ⟨hg_bool (by rw [Bool.eq_iff_iff, isS_iff]; first | (rw [decide_eq_true_eq]; omega) | (constructor <;> intro h <;> first | (cases h; done) | omega)), rfl⟩)
theorem isL_ref (c : Nat) (w : World) : Calls Tryd.prog 21 #[.int .u32 (c : Int)] w fun e w' => e = .returned (.bool (isL c)) ∧ w = w' := by
  go_enter Tryd.func21, Tryd.ntmps21
  go_wp2
  all_goals (go_ret; exact ⟨hg_bool (by rw [Bool.eq_iff_iff, isL_iff]; first | (rw [decide_eq_true_eq]; omega) | (constructor <;> intro h <;> first | (cases h; done) | omega)), rfl⟩)
theorem isV_ref (c : Nat) (w : World) : Calls Tryd.prog 22 #[.int .u32 (c : Int)] w fun e w' => e = .returned (.bool (isV c)) ∧ w = w' := by
  go_enter Tryd.func22, Tryd.ntmps22
  go_wp2
  all_goals (go_ret; exact ⟨hg_bool (by rw [Bool.eq_iff_iff, isV_iff]; first | (rw [decide_eq_true_eq]; omega) | (constructor <;> intro h <;> first | (cases h; done) | omega)), rfl⟩)
theorem isT_ref (c : Nat) (w : World) : Calls Tryd.prog 23 #[.int .u32 (c : Int)] w fun e w' => e = .returned (.bool (isT c)) ∧ w = w' := by
  go_enter Tryd.func23, Tryd.ntmps23
  go_wp2
  all_goals (go_ret; exact ⟨hg_bool (by rw [Bool.eq_iff_iff, isT_iff]; first | (rw [decide_eq_true_eq]; omega) | (constructor <;> intro h <;> first | (cases h; done) | omega)), rfl⟩)

theorem split_ref (c : Nat) (w : World) : Calls Tryd.prog 10 #[.int .u32 (c : Int)] w fun e w' =>
    e = .returned (.tuple #[.int .u32 (splL c : Int), .int .u32 (splV c : Int), .int .u32 (splT c : Int), .bool (isS c)]) ∧ w = w' := by
  have c1 := is_ref4 c
  by_cases hs : isS c = true
  · have hb := (isS_iff c).1 hs
    obtain ⟨h1, h2⟩ := hb
    have H1 := Lib.hid hs
    have e1 : splL c = 4352 + (c - 44032) / 28 / 21 := by unfold splL; rw [if_pos hs]
    have e2 : splV c = 4449 + (c - 44032) / 28 % 21 := by unfold splV; rw [if_pos hs]
    have e3 : splT c = if (c - 44032) % 28 = 0 then 0 else 4519 + (c - 44032) % 28 := by unfold splT; rw [if_pos hs]
    have E1 := Lib.hid e1
    have E2 := Lib.hid e2
    have E3 := Lib.hid e3
    rw [hs] at c1 ⊢
    clear hs e1 e2 e3
    generalize splL c = x at *
    generalize splV c = y at *
    generalize splT c = z at *
    by_cases h0 : (c - 44032) % 28 = 0
    · have hz : (((c : Int) - 44032) % 28 != 0) = false := by simp; omega
      have H0 := Lib.hid h0
      clear h0
      go_enter Tryd.func10, Tryd.ntmps10
      go_wp2_with fail
      refine (c1 _).mono ?_
      rintro e w1 ⟨rfl, rfl⟩
      go_wp2_with fail
      refine bodyPost_ret (results_tmp4 rfl _ _ _) rfl ?_
      exact ⟨hg_4 (by rw [E1.out]; omega) (by rw [E2.out]; omega) (by rw [E3.out, if_pos H0.out]; have := H0.out; omega) rfl, rfl⟩
    · have hz : (((c : Int) - 44032) % 28 != 0) = true := by simp; omega
      have H0 := Lib.hid h0
      clear h0
      go_enter Tryd.func10, Tryd.ntmps10
      go_wp2_with fail
      refine (c1 _).mono ?_
      rintro e w1 ⟨rfl, rfl⟩
      go_wp2_with fail
      refine bodyPost_ret (results_tmp4 rfl _ _ _) rfl ?_
      exact ⟨hg_4 (by rw [E1.out]; omega) (by rw [E2.out]; omega) (by rw [E3.out, if_neg H0.out, Int.natCast_add, Int.natCast_emod, Int.natCast_sub h1]; rfl) rfl, rfl⟩
  · have hs' : isS c = false := by simpa using hs
    have e1 : splL c = 0 := by unfold splL; rw [if_neg hs]
    have e2 : splV c = 0 := by unfold splV; rw [if_neg hs]
    have e3 : splT c = 0 := by unfold splT; rw [if_neg hs]
    rw [hs'] at c1
    rw [hs', e1, e2, e3]
    clear hs hs' e1 e2 e3
    go_enter Tryd.func10, Tryd.ntmps10
    go_wp2_with fail
    refine (c1 _).mono ?_
    rintro e w1 ⟨rfl, rfl⟩
    go_wp2_with fail
    refine bodyPost_ret (results_tmp4 rfl _ _ _) rfl ?_
    exact ⟨rfl, rfl⟩

theorem put_ref (l v t : Nat) (w : World) : Calls Tryd.prog 15 #[.int .u32 (l : Int), .int .u32 (v : Int), .int .u32 (t : Int)] w fun e w' =>
    e = .returned (.tuple #[.int .u32 (putC l v t : Int), .int .i64 (putE l v t : Int)]) ∧ w = w' := by
  have c1 := isL_ref l
  have c2 := isV_ref v
  have c3 := isT_ref t
  by_cases hl : isL l = true
  · by_cases hv : isV v = true
    · by_cases ht0 : t = 0
      · subst ht0
        have hok : putOk l v 0 = true := by unfold putOk; rw [hl, hv]; rfl
        have e1 : putC l v 0 = 44032 + (21 * (l - 4352) + (v - 4449)) * 28 := by unfold putC; rw [if_pos hok, if_pos rfl, Nat.add_zero]
        have e2 : putE l v 0 = 0 := by unfold putE; rw [if_pos hok]
        have E1 := Lib.hid e1
        obtain ⟨h1, h2⟩ := (isL_iff l).1 hl
        obtain ⟨h3, h4⟩ := (isV_iff v).1 hv
        rw [hl] at c1
        rw [hv] at c2
        rw [e2]
        clear hl hv hok e1 e2
        generalize putC l v 0 = x at *
        go_enter Tryd.func15, Tryd.ntmps15
        go_wp2_with fail
        refine (c1 _).mono ?_
        rintro e w1 ⟨rfl, rfl⟩
        go_wp2_with fail
        refine (c2 _).mono ?_
        rintro e w1 ⟨rfl, rfl⟩
        go_wp2_with fail
        go_ret2
        exact ⟨hg_2 (by rw [E1.out]; omega) rfl, rfl⟩
      · by_cases ht : isT t = true
        · have hok : putOk l v t = true := by unfold putOk; rw [hl, hv, ht]; simp
          have e1 : putC l v t = 44032 + (21 * (l - 4352) + (v - 4449)) * 28 + (t - 4519) := by unfold putC; rw [if_pos hok, if_neg ht0]
          have e2 : putE l v t = 0 := by unfold putE; rw [if_pos hok]
          have E1 := Lib.hid e1
          obtain ⟨h1, h2⟩ := (isL_iff l).1 hl
          obtain ⟨h3, h4⟩ := (isV_iff v).1 hv
          obtain ⟨h5, h6⟩ := (isT_iff t).1 ht
          have hz : ((t : Int) != 0) = true := by simp; omega
          rw [hl] at c1
          rw [hv] at c2
          rw [ht] at c3
          rw [e2]
          clear hl hv hok e1 e2 ht ht0
          generalize putC l v t = x at *
          go_enter Tryd.func15, Tryd.ntmps15
          go_wp2_with fail
          refine (c1 _).mono ?_
          rintro e w1 ⟨rfl, rfl⟩
          go_wp2_with fail
          refine (c2 _).mono ?_
          rintro e w1 ⟨rfl, rfl⟩
          go_wp2_with fail
          refine (c3 _).mono ?_
          rintro e w1 ⟨rfl, rfl⟩
          go_wp2_with fail
          go_ret2
          exact ⟨hg_2 (by rw [E1.out]; omega) rfl, rfl⟩
        · have ht' : isT t = false := by simpa using ht
          have hok : ¬ putOk l v t = true := by unfold putOk; rw [hl, hv, ht']; simp [ht0]
          have e1 : putC l v t = 0 := by unfold putC; rw [if_neg hok]
          have e2 : putE l v t = 2 := by unfold putE; rw [if_neg hok]
          have hz : ((t : Int) != 0) = true := by simp; omega
          rw [hl] at c1
          rw [hv] at c2
          rw [ht'] at c3
          rw [e1, e2]
          clear hl hv hok e1 e2 ht ht0 ht'
          go_enter Tryd.func15, Tryd.ntmps15
          go_wp2_with fail
          refine (c1 _).mono ?_
          rintro e w1 ⟨rfl, rfl⟩
          go_wp2_with fail
          refine (c2 _).mono ?_
          rintro e w1 ⟨rfl, rfl⟩
          go_wp2_with fail
          refine (c3 _).mono ?_
          rintro e w1 ⟨rfl, rfl⟩
          go_wp2_with fail
          go_ret2
          exact ⟨rfl, rfl⟩
    · have hv' : isV v = false := by simpa using hv
      have hok : ¬ putOk l v t = true := by unfold putOk; rw [hl, hv']; simp
      have e1 : putC l v t = 0 := by unfold putC; rw [if_neg hok]
      have e2 : putE l v t = 2 := by unfold putE; rw [if_neg hok]
      rw [hl] at c1
      rw [hv'] at c2
      rw [e1, e2]
      clear hl hv hv' hok e1 e2
      go_enter Tryd.func15, Tryd.ntmps15
      go_wp2_with fail
      refine (c1 _).mono ?_
      rintro e w1 ⟨rfl, rfl⟩
      go_wp2_with fail
      refine (c2 _).mono ?_
      rintro e w1 ⟨rfl, rfl⟩
      go_wp2_with fail
      go_ret2
      exact ⟨rfl, rfl⟩
  · have hl' : isL l = false := by simpa using hl
    have hok : ¬ putOk l v t = true := by unfold putOk; rw [hl']; simp
    have e1 : putC l v t = 0 := by unfold putC; rw [if_neg hok]
    have e2 : putE l v t = 2 := by unfold putE; rw [if_neg hok]
    rw [hl'] at c1
    rw [e1, e2]
    clear hl hl' hok e1 e2
    go_enter Tryd.func15, Tryd.ntmps15
    go_wp2_with fail
    refine (c1 _).mono ?_
    rintro e w1 ⟨rfl, rfl⟩
    go_wp2_with fail
    go_ret2
    exact ⟨rfl, rfl⟩

theorem join_ref (a b : Nat) (w : World) : Calls Tryd.prog 17 #[.int .u32 (a : Int), .int .u32 (b : Int)] w fun e w' =>
    e = .returned (.tuple #[.int .u32 (joinC a b : Int), .bool (joinOk a b)]) ∧ w = w' := by
  have c1 := isL_ref a
  have c2 := isV_ref b
  have c3 := isT_ref b
  have c4 := split_ref a
  have c5 := put_ref a b 0
  have c6 := put_ref (splL a) (splV a) b
  by_cases hlv : lv a b = true
  · have e1 : joinC a b = putC a b 0 := by unfold joinC; rw [if_pos hlv]
    have e2 : joinOk a b = true := by unfold joinOk; rw [hlv]; rfl
    have hl : isL a = true := by unfold lv at hlv; rw [Bool.and_eq_true] at hlv; exact hlv.1
    have hv : isV b = true := by unfold lv at hlv; rw [Bool.and_eq_true] at hlv; exact hlv.2
    rw [e1, e2]
    rw [hl] at c1
    rw [hv] at c2
    clear e1 e2 hlv hl hv
    generalize putC a b 0 = x at *
    go_enter Tryd.func17, Tryd.ntmps17
    go_wp2_with fail
    refine (c1 _).mono ?_
    rintro e w1 ⟨rfl, rfl⟩
    go_wp2_with fail
    refine (c2 _).mono ?_
    rintro e w1 ⟨rfl, rfl⟩
    go_wp2_with fail
    refine (c5 _).mono ?_
    rintro e w1 ⟨rfl, rfl⟩
    go_wp2_with fail
    go_ret2
    exact ⟨rfl, rfl⟩
  · by_cases hlvt : lvt a b = true
    · have e1 : joinC a b = putC (splL a) (splV a) b := by unfold joinC; rw [if_neg hlv, if_pos hlvt]
      have e2 : joinOk a b = true := by unfold joinOk; rw [hlvt]; simp
      obtain ⟨g1, g2, g3⟩ := (lvt_iff a b).1 hlvt
      have hl : isL a = false := by rw [Bool.eq_false_iff]; intro h; have := (isL_iff a).1 h; omega
      have hs : isS a = true := (isS_iff a).2 g1
      have ht : isT b = true := (isT_iff b).2 g3
      have hz : splT a = 0 := (splT_zero a hs).2 g2
      rw [e1, e2]
      rw [hl] at c1
      rw [hs, hz] at c4
      rw [ht] at c3
      clear e1 e2 hlv hlvt hl ht hs hz g1 g2 g3 c2 c5
      generalize splL a = l at *
      generalize splV a = v at *
      generalize putC l v b = x at *
      go_enter Tryd.func17, Tryd.ntmps17
      go_wp2_with fail
      refine (c1 _).mono ?_
      rintro e w1 ⟨rfl, rfl⟩
      go_wp2_with fail
      refine (c4 _).mono ?_
      rintro e w1 ⟨rfl, rfl⟩
      go_wp2_with fail
      refine (c3 _).mono ?_
      rintro e w1 ⟨rfl, rfl⟩
      go_wp2_with fail
      refine (c6 _).mono ?_
      rintro e w1 ⟨rfl, rfl⟩
      go_wp2_with fail
      go_ret2
      exact ⟨rfl, rfl⟩
    · have e1 : joinC a b = 0 := by unfold joinC; rw [if_neg hlv, if_neg hlvt]
      have e2 : joinOk a b = false := by unfold joinOk; rw [Bool.eq_false_iff.2 hlv, Bool.eq_false_iff.2 hlvt]; rfl
      rw [e1, e2]
      clear e1 e2
      have hlv' : lv a b = false := Bool.eq_false_iff.2 hlv
      have hlvt' : lvt a b = false := Bool.eq_false_iff.2 hlvt
      clear hlv hlvt
      unfold lv at hlv'
      unfold lvt at hlvt'
      generalize isL a = il at *
      generalize isV b = iv at *
      generalize isT b = it at *
      generalize isS a = is at *
      generalize splT a = t at *
      generalize splL a = l at *
      generalize splV a = v at *
      by_cases h0 : t = 0
      · subst h0
        have hx : (is && it) = false := by revert hlvt'; cases is <;> cases it <;> simp
        clear hlvt'
        cases il <;> cases iv <;> cases is <;> cases it <;> first | (exfalso; revert hlv' hx; simp; done) | skip
        all_goals
          clear hlv' hx
          go_enter Tryd.func17, Tryd.ntmps17
          go_wp2_with fail
          refine (c1 _).mono ?_
          rintro e w1 ⟨rfl, rfl⟩
          go_wp2_with (first | (go_at_call 22; refine (c2 _).mono ?_; rintro e w1 ⟨rfl, rfl⟩) | (go_at_call 10; refine (c4 _).mono ?_; rintro e w1 ⟨rfl, rfl⟩) | (go_at_call 23; refine (c3 _).mono ?_; rintro e w1 ⟨rfl, rfl⟩))
          go_ret2
          exact ⟨rfl, rfl⟩
      · have hz : ((t : Int) == 0) = false := by simp; omega
        clear hlvt' h0
        cases il <;> cases iv <;> cases is <;> first | (exfalso; revert hlv'; simp; done) | skip
        all_goals
          clear hlv'
          go_enter Tryd.func17, Tryd.ntmps17
          go_wp2_with fail
          refine (c1 _).mono ?_
          rintro e w1 ⟨rfl, rfl⟩
          go_wp2_with (first | (go_at_call 22; refine (c2 _).mono ?_; rintro e w1 ⟨rfl, rfl⟩) | (go_at_call 10; refine (c4 _).mono ?_; rintro e w1 ⟨rfl, rfl⟩) | (go_at_call 23; refine (c3 _).mono ?_; rintro e w1 ⟨rfl, rfl⟩))
          go_ret2
          exact ⟨rfl, rfl⟩

end Go.Proofs.YteimbnkeabgmnaaDoor
