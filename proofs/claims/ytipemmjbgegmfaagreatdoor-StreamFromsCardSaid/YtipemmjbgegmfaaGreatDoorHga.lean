/- Hga: one text of Hgp Hgr Hgo. -/
import Derived.Test.YtipemmjbgegmfaaGreatDoorRows
import Derived.WalkKit
import Derived.Test.YtipemmjbgegmfaaGreatDoorBas
import Derived.Lib.Hide
import Derived.OwnWalk
import Derived.Outline
import Derived.Deep.QuietTactic
import Derived.BigQuiet

/- Syllables, plain: what they are split into, put and joined of. -/
namespace Go.Proofs.YtipemmjbgegmfaaGreatDoor

def isL (c : Nat) : Bool := decide (4352 ≤ c) && decide (c < 4371)
def isV (c : Nat) : Bool := decide (4449 ≤ c) && decide (c < 4470)
def isT (c : Nat) : Bool := decide (4520 ≤ c) && decide (c < 4547)
def isS (c : Nat) : Bool := decide (44032 ≤ c) && decide (c ≤ 55203)
theorem isL_iff (c : Nat) : isL c = true ↔ 4352 ≤ c ∧ c < 4371 := by unfold isL; simp
theorem isV_iff (c : Nat) : isV c = true ↔ 4449 ≤ c ∧ c < 4470 := by unfold isV; simp
theorem isT_iff (c : Nat) : isT c = true ↔ 4520 ≤ c ∧ c < 4547 := by unfold isT; simp
theorem isS_iff (c : Nat) : isS c = true ↔ 44032 ≤ c ∧ c ≤ 55203 := by unfold isS; simp
def splL (c : Nat) : Nat := if isS c = true then 4352 + (c - 44032) / 28 / 21 else 0
def splV (c : Nat) : Nat := if isS c = true then 4449 + (c - 44032) / 28 % 21 else 0
def splT (c : Nat) : Nat := if isS c = true then (if (c - 44032) % 28 = 0 then 0 else 4519 + (c - 44032) % 28) else 0
def putOk (l v t : Nat) : Bool := isL l && isV v && (decide (t = 0) || isT t)
def putC (l v t : Nat) : Nat := if putOk l v t = true then 44032 + (21 * (l - 4352) + (v - 4449)) * 28 + (if t = 0 then 0 else t - 4519) else 0
def putE (l v t : Nat) : Nat := if putOk l v t = true then 0 else 2
def lv (a b : Nat) : Bool := isL a && isV b
def lvt (a b : Nat) : Bool := isS a && decide (splT a = 0) && isT b
def joinOk (a b : Nat) : Bool := lv a b || lvt a b
def joinC (a b : Nat) : Nat := if lv a b = true then putC a b 0 else if lvt a b = true then putC (splL a) (splV a) b else 0

theorem putOk_iff (l v t : Nat) : putOk l v t = true ↔ (4352 ≤ l ∧ l < 4371) ∧ (4449 ≤ v ∧ v < 4470) ∧ (t = 0 ∨ 4520 ≤ t ∧ t < 4547) := by
  unfold putOk
  rw [Bool.and_eq_true, Bool.and_eq_true, Bool.or_eq_true, isL_iff, isV_iff, isT_iff, decide_eq_true_eq, and_assoc]
theorem lv_iff (a b : Nat) : lv a b = true ↔ (4352 ≤ a ∧ a < 4371) ∧ (4449 ≤ b ∧ b < 4470) := by unfold lv; rw [Bool.and_eq_true, isL_iff, isV_iff]
theorem splT_zero (c : Nat) (h : isS c = true) : splT c = 0 ↔ (c - 44032) % 28 = 0 := by
  unfold splT; rw [if_pos h]; split <;> omega
theorem lvt_iff (a b : Nat) : lvt a b = true ↔ (44032 ≤ a ∧ a ≤ 55203) ∧ (a - 44032) % 28 = 0 ∧ (4520 ≤ b ∧ b < 4547) := by
  unfold lvt
  rw [Bool.and_eq_true, Bool.and_eq_true, isT_iff, decide_eq_true_eq]
  constructor
  · rintro ⟨⟨h1, h2⟩, h3⟩; exact ⟨(isS_iff a).1 h1, (splT_zero a h1).1 h2, h3⟩
  · rintro ⟨h1, h2, h3⟩; exact ⟨⟨(isS_iff a).2 h1, (splT_zero a ((isS_iff a).2 h1)).2 h2⟩, h3⟩

end Go.Proofs.YtipemmjbgegmfaaGreatDoor

/- The document's syllables: what its functions answer. -/
namespace Go.Proofs.YtipemmjbgegmfaaGreatDoor
open Go.RowKit

theorem hg_val {x y : Value} (h : x = y) : Ending.returned x = .returned y := by rw [h]
theorem hg_u32 {a b : Int} (h : a = b) : Value.int .u32 a = .int .u32 b := by rw [h]
theorem hg_bool {a b : Bool} (h : a = b) : Ending.returned (.bool a) = .returned (.bool b) := by rw [h]
theorem hg_2 {a a' : Int} {b b' : Value} (h1 : a = a') (h2 : b = b') : Ending.returned (.tuple #[.int .u32 a, b]) = .returned (.tuple #[.int .u32 a', b']) := by rw [h1, h2]
theorem hg_4 {a b c a' b' c' : Int} {d d' : Bool} (h1 : a = a') (h2 : b = b') (h3 : c = c') (h4 : d = d') :
    Ending.returned (.tuple #[.int .u32 a, .int .u32 b, .int .u32 c, .bool d]) = .returned (.tuple #[.int .u32 a', .int .u32 b', .int .u32 c', .bool d']) := by rw [h1, h2, h3, h4]
theorem results_tmp4 {fn : Func} {t u v x : Tmp} (h : fn.results = #[.tmp t, .tmp u, .tmp v, .tmp x]) (tmps : Array Value) (P : Program) (w : World) :
    (results fn tmps).run P w = .ok (.tuple #[tmps.getD t undef, tmps.getD u undef, tmps.getD v undef, tmps.getD x undef]) w := by simp [results, h]

theorem is_ref4 (c : Nat) (w : World) : Calls Tryz.prog 130 #[.int .u32 (c : Int)] w fun e w' => e = .returned (.bool (isS c)) ∧ w = w' := by
  go_enter Tryz.func130, Tryz.ntmps130
  go_wp2
  all_goals (go_ret; exact ⟨hg_bool (by rw [Bool.eq_iff_iff, isS_iff]; first | (rw [decide_eq_true_eq]; omega) | (constructor <;> intro h <;> first | (cases h; done) | omega)), rfl⟩)
theorem isL_ref (c : Nat) (w : World) : Calls Tryz.prog 118 #[.int .u32 (c : Int)] w fun e w' => e = .returned (.bool (isL c)) ∧ w = w' := by
  go_enter Tryz.func118, Tryz.ntmps118
  go_wp2
  all_goals (go_ret; exact ⟨hg_bool (by rw [Bool.eq_iff_iff, isL_iff]; first | (rw [decide_eq_true_eq]; omega) | (constructor <;> intro h <;> first | (cases h; done) | omega)), rfl⟩)
theorem isV_ref (c : Nat) (w : World) : Calls Tryz.prog 119 #[.int .u32 (c : Int)] w fun e w' => e = .returned (.bool (isV c)) ∧ w = w' := by
  go_enter Tryz.func119, Tryz.ntmps119
  go_wp2
  all_goals (go_ret; exact ⟨hg_bool (by rw [Bool.eq_iff_iff, isV_iff]; first | (rw [decide_eq_true_eq]; omega) | (constructor <;> intro h <;> first | (cases h; done) | omega)), rfl⟩)
theorem isT_ref (c : Nat) (w : World) : Calls Tryz.prog 122 #[.int .u32 (c : Int)] w fun e w' => e = .returned (.bool (isT c)) ∧ w = w' := by
  go_enter Tryz.func122, Tryz.ntmps122
  go_wp2
  all_goals (go_ret; exact ⟨hg_bool (by rw [Bool.eq_iff_iff, isT_iff]; first | (rw [decide_eq_true_eq]; omega) | (constructor <;> intro h <;> first | (cases h; done) | omega)), rfl⟩)

theorem split_ref (c : Nat) (w : World) : Calls Tryz.prog 121 #[.int .u32 (c : Int)] w fun e w' =>
    e = .returned (.tuple #[.int .u32 (splL c : Int), .int .u32 (splV c : Int), .int .u32 (splT c : Int), .bool (isS c)]) ∧ w = w' := by
  have c1 := is_ref4 c
  by_cases hs : isS c = true
  · have hb := (isS_iff c).1 hs
    obtain ⟨h1, h2⟩ := hb
    have H1 := Lib.hid hs
    have e1 : splL c = 4352 + (c - 44032) / 28 / 21 := by unfold splL; rw [if_pos hs]
    have e2 : splV c = 4449 + (c - 44032) / 28 % 21 := by unfold splV; rw [if_pos hs]
    have e3 : splT c = if (c - 44032) % 28 = 0 then 0 else 4519 + (c - 44032) % 28 := by unfold splT; rw [if_pos hs]
    have E1 := Lib.hid e1
    have E2 := Lib.hid e2
    have E3 := Lib.hid e3
    rw [hs] at c1 ⊢
    clear hs e1 e2 e3
    generalize splL c = x at *
    generalize splV c = y at *
    generalize splT c = z at *
    by_cases h0 : (c - 44032) % 28 = 0
    · have hz : (((c : Int) - 44032) % 28 != 0) = false := by simp; omega
      have H0 := Lib.hid h0
      clear h0
      go_enter Tryz.func121, Tryz.ntmps121
      go_wp2_with fail
      refine (c1 _).mono ?_
      rintro e w1 ⟨rfl, rfl⟩
      go_wp2_with fail
      refine bodyPost_ret (results_tmp4 rfl _ _ _) rfl ?_
      exact ⟨hg_4 (by rw [E1.out]; omega) (by rw [E2.out]; omega) (by rw [E3.out, if_pos H0.out]; have := H0.out; omega) rfl, rfl⟩
    · have hz : (((c : Int) - 44032) % 28 != 0) = true := by simp; omega
      have H0 := Lib.hid h0
      clear h0
      go_enter Tryz.func121, Tryz.ntmps121
      go_wp2_with fail
      refine (c1 _).mono ?_
      rintro e w1 ⟨rfl, rfl⟩
      go_wp2_with fail
      refine bodyPost_ret (results_tmp4 rfl _ _ _) rfl ?_
      exact ⟨hg_4 (by rw [E1.out]; omega) (by rw [E2.out]; omega) (by rw [E3.out, if_neg H0.out, Int.natCast_add, Int.natCast_emod, Int.natCast_sub h1]; rfl) rfl, rfl⟩
  · have hs' : isS c = false := by simpa using hs
    have e1 : splL c = 0 := by unfold splL; rw [if_neg hs]
    have e2 : splV c = 0 := by unfold splV; rw [if_neg hs]
    have e3 : splT c = 0 := by unfold splT; rw [if_neg hs]
    rw [hs'] at c1
    rw [hs', e1, e2, e3]
    clear hs hs' e1 e2 e3
    go_enter Tryz.func121, Tryz.ntmps121
    go_wp2_with fail
    refine (c1 _).mono ?_
    rintro e w1 ⟨rfl, rfl⟩
    go_wp2_with fail
    refine bodyPost_ret (results_tmp4 rfl _ _ _) rfl ?_
    exact ⟨rfl, rfl⟩

theorem put_ref (l v t : Nat) (w : World) : Calls Tryz.prog 120 #[.int .u32 (l : Int), .int .u32 (v : Int), .int .u32 (t : Int)] w fun e w' =>
    e = .returned (.tuple #[.int .u32 (putC l v t : Int), .int .i64 (putE l v t : Int)]) ∧ w = w' := by
  have c1 := isL_ref l
  have c2 := isV_ref v
  have c3 := isT_ref t
  by_cases hl : isL l = true
  · by_cases hv : isV v = true
    · by_cases ht0 : t = 0
      · subst ht0
        have hok : putOk l v 0 = true := by unfold putOk; rw [hl, hv]; rfl
        have e1 : putC l v 0 = 44032 + (21 * (l - 4352) + (v - 4449)) * 28 := by unfold putC; rw [if_pos hok, if_pos rfl, Nat.add_zero]
        have e2 : putE l v 0 = 0 := by unfold putE; rw [if_pos hok]
        have E1 := Lib.hid e1
        obtain ⟨h1, h2⟩ := (isL_iff l).1 hl
        obtain ⟨h3, h4⟩ := (isV_iff v).1 hv
        rw [hl] at c1
        rw [hv] at c2
        rw [e2]
        clear hl hv hok e1 e2
        generalize putC l v 0 = x at *
        go_enter Tryz.func120, Tryz.ntmps120
        go_wp2_with fail
        refine (c1 _).mono ?_
        rintro e w1 ⟨rfl, rfl⟩
        go_wp2_with fail
        refine (c2 _).mono ?_
        rintro e w1 ⟨rfl, rfl⟩
        go_wp2_with fail
        go_ret2
        exact ⟨hg_2 (by rw [E1.out]; omega) rfl, rfl⟩
      · by_cases ht : isT t = true
        · have hok : putOk l v t = true := by unfold putOk; rw [hl, hv, ht]; simp
          have e1 : putC l v t = 44032 + (21 * (l - 4352) + (v - 4449)) * 28 + (t - 4519) := by unfold putC; rw [if_pos hok, if_neg ht0]
          have e2 : putE l v t = 0 := by unfold putE; rw [if_pos hok]
          have E1 := Lib.hid e1
          obtain ⟨h1, h2⟩ := (isL_iff l).1 hl
          obtain ⟨h3, h4⟩ := (isV_iff v).1 hv
          obtain ⟨h5, h6⟩ := (isT_iff t).1 ht
          have hz : ((t : Int) != 0) = true := by simp; omega
          rw [hl] at c1
          rw [hv] at c2
          rw [ht] at c3
          rw [e2]
          clear hl hv hok e1 e2 ht ht0
          generalize putC l v t = x at *
          go_enter Tryz.func120, Tryz.ntmps120
          go_wp2_with fail
          refine (c1 _).mono ?_
          rintro e w1 ⟨rfl, rfl⟩
          go_wp2_with fail
          refine (c2 _).mono ?_
          rintro e w1 ⟨rfl, rfl⟩
          go_wp2_with fail
          refine (c3 _).mono ?_
          rintro e w1 ⟨rfl, rfl⟩
          go_wp2_with fail
          go_ret2
          exact ⟨hg_2 (by rw [E1.out]; omega) rfl, rfl⟩
        · have ht' : isT t = false := by simpa using ht
          have hok : ¬ putOk l v t = true := by unfold putOk; rw [hl, hv, ht']; simp [ht0]
          have e1 : putC l v t = 0 := by unfold putC; rw [if_neg hok]
          have e2 : putE l v t = 2 := by unfold putE; rw [if_neg hok]
          have hz : ((t : Int) != 0) = true := by simp; omega
          rw [hl] at c1
          rw [hv] at c2
          rw [ht'] at c3
          rw [e1, e2]
          clear hl hv hok e1 e2 ht ht0 ht'
          go_enter Tryz.func120, Tryz.ntmps120
          go_wp2_with fail
          refine (c1 _).mono ?_
          rintro e w1 ⟨rfl, rfl⟩
          go_wp2_with fail
          refine (c2 _).mono ?_
          rintro e w1 ⟨rfl, rfl⟩
          go_wp2_with fail
          refine (c3 _).mono ?_
          rintro e w1 ⟨rfl, rfl⟩
          go_wp2_with fail
          go_ret2
          exact ⟨rfl, rfl⟩
    · have hv' : isV v = false := by simpa using hv
      have hok : ¬ putOk l v t = true := by unfold putOk; rw [hl, hv']; simp
      have e1 : putC l v t = 0 := by unfold putC; rw [if_neg hok]
      have e2 : putE l v t = 2 := by unfold putE; rw [if_neg hok]
      rw [hl] at c1
      rw [hv'] at c2
      rw [e1, e2]
      clear hl hv hv' hok e1 e2
      go_enter Tryz.func120, Tryz.ntmps120
      go_wp2_with fail
      refine (c1 _).mono ?_
      rintro e w1 ⟨rfl, rfl⟩
      go_wp2_with fail
      refine (c2 _).mono ?_
      rintro e w1 ⟨rfl, rfl⟩
      go_wp2_with fail
      go_ret2
      exact ⟨rfl, rfl⟩
  · have hl' : isL l = false := by simpa using hl
    have hok : ¬ putOk l v t = true := by unfold putOk; rw [hl']; simp
    have e1 : putC l v t = 0 := by unfold putC; rw [if_neg hok]
    have e2 : putE l v t = 2 := by unfold putE; rw [if_neg hok]
    rw [hl'] at c1
    rw [e1, e2]
    clear hl hl' hok e1 e2
    go_enter Tryz.func120, Tryz.ntmps120
    go_wp2_with fail
    refine (c1 _).mono ?_
    rintro e w1 ⟨rfl, rfl⟩
    go_wp2_with fail
    go_ret2
    exact ⟨rfl, rfl⟩

theorem join_ref (a b : Nat) (w : World) : Calls Tryz.prog 103 #[.int .u32 (a : Int), .int .u32 (b : Int)] w fun e w' =>
    e = .returned (.tuple #[.int .u32 (joinC a b : Int), .bool (joinOk a b)]) ∧ w = w' := by
  have c1 := isL_ref a
  have c2 := isV_ref b
  have c3 := isT_ref b
  have c4 := split_ref a
  have c5 := put_ref a b 0
  have c6 := put_ref (splL a) (splV a) b
  by_cases hlv : lv a b = true
  · have e1 : joinC a b = putC a b 0 := by unfold joinC; rw [if_pos hlv]
    have e2 : joinOk a b = true := by unfold joinOk; rw [hlv]; rfl
    have hl : isL a = true := by unfold lv at hlv; rw [Bool.and_eq_true] at hlv; exact hlv.1
    have hv : isV b = true := by unfold lv at hlv; rw [Bool.and_eq_true] at hlv; exact hlv.2
    rw [e1, e2]
    rw [hl] at c1
    rw [hv] at c2
    clear e1 e2 hlv hl hv
    generalize putC a b 0 = x at *
    go_enter Tryz.func103, Tryz.ntmps103
    go_wp2_with fail
    refine (c1 _).mono ?_
    rintro e w1 ⟨rfl, rfl⟩
    go_wp2_with fail
    refine (c2 _).mono ?_
    rintro e w1 ⟨rfl, rfl⟩
    go_wp2_with fail
    refine (c5 _).mono ?_
    rintro e w1 ⟨rfl, rfl⟩
    go_wp2_with fail
    go_ret2
    exact ⟨rfl, rfl⟩
  · by_cases hlvt : lvt a b = true
    · have e1 : joinC a b = putC (splL a) (splV a) b := by unfold joinC; rw [if_neg hlv, if_pos hlvt]
      have e2 : joinOk a b = true := by unfold joinOk; rw [hlvt]; simp
      obtain ⟨g1, g2, g3⟩ := (lvt_iff a b).1 hlvt
      have hl : isL a = false := by rw [Bool.eq_false_iff]; intro h; have := (isL_iff a).1 h; omega
      have hs : isS a = true := (isS_iff a).2 g1
      have ht : isT b = true := (isT_iff b).2 g3
      have hz : splT a = 0 := (splT_zero a hs).2 g2
      rw [e1, e2]
      rw [hl] at c1
      rw [hs, hz] at c4
      rw [ht] at c3
      clear e1 e2 hlv hlvt hl ht hs hz g1 g2 g3 c2 c5
      generalize splL a = l at *
      generalize splV a = v at *
      generalize putC l v b = x at *
      go_enter Tryz.func103, Tryz.ntmps103
      go_wp2_with fail
      refine (c1 _).mono ?_
      rintro e w1 ⟨rfl, rfl⟩
      go_wp2_with fail
      refine (c4 _).mono ?_
      rintro e w1 ⟨rfl, rfl⟩
      go_wp2_with fail
      refine (c3 _).mono ?_
      rintro e w1 ⟨rfl, rfl⟩
      go_wp2_with fail
      refine (c6 _).mono ?_
      rintro e w1 ⟨rfl, rfl⟩
      go_wp2_with fail
      go_ret2
      exact ⟨rfl, rfl⟩
    · have e1 : joinC a b = 0 := by unfold joinC; rw [if_neg hlv, if_neg hlvt]
      have e2 : joinOk a b = false := by unfold joinOk; rw [Bool.eq_false_iff.2 hlv, Bool.eq_false_iff.2 hlvt]; rfl
      rw [e1, e2]
      clear e1 e2
      have hlv' : lv a b = false := Bool.eq_false_iff.2 hlv
      have hlvt' : lvt a b = false := Bool.eq_false_iff.2 hlvt
      clear hlv hlvt
      unfold lv at hlv'
      unfold lvt at hlvt'
      generalize isL a = il at *
      generalize isV b = iv at *
      generalize isT b = it at *
      generalize isS a = is at *
      generalize splT a = t at *
      generalize splL a = l at *
      generalize splV a = v at *
      by_cases h0 : t = 0
      · subst h0
        have hx : (is && it) = false := by revert hlvt'; cases is <;> cases it <;> simp
        clear hlvt'
        cases il <;> cases iv <;> cases is <;> cases it <;> first | (exfalso; revert hlv' hx; simp; done) | skip
        all_goals
          clear hlv' hx
          go_enter Tryz.func103, Tryz.ntmps103
          go_wp2_with fail
          refine (c1 _).mono ?_
          rintro e w1 ⟨rfl, rfl⟩
          go_wp2_with (first | (go_at_call 119; refine (c2 _).mono ?_; rintro e w1 ⟨rfl, rfl⟩) | (go_at_call 121; refine (c4 _).mono ?_; rintro e w1 ⟨rfl, rfl⟩) | (go_at_call 122; refine (c3 _).mono ?_; rintro e w1 ⟨rfl, rfl⟩))
          go_ret2
          exact ⟨rfl, rfl⟩
      · have hz : ((t : Int) == 0) = false := by simp; omega
        clear hlvt' h0
        cases il <;> cases iv <;> cases is <;> first | (exfalso; revert hlv'; simp; done) | skip
        all_goals
          clear hlv'
          go_enter Tryz.func103, Tryz.ntmps103
          go_wp2_with fail
          refine (c1 _).mono ?_
          rintro e w1 ⟨rfl, rfl⟩
          go_wp2_with (first | (go_at_call 119; refine (c2 _).mono ?_; rintro e w1 ⟨rfl, rfl⟩) | (go_at_call 121; refine (c4 _).mono ?_; rintro e w1 ⟨rfl, rfl⟩) | (go_at_call 122; refine (c3 _).mono ?_; rintro e w1 ⟨rfl, rfl⟩))
          go_ret2
          exact ⟨rfl, rfl⟩

end Go.Proofs.YtipemmjbgegmfaaGreatDoor

/- The program's syllables: what its functions answer in a world that holds its rows. -/
namespace Go.Proofs.YtipemmjbgegmfaaGreatDoor
open Go.RowKit

/-- The program's rows of letters lie in memory. -/
structure HRows (w : World) : Prop where
  c0 : w.cell? ⟨0, 0, none⟩ = some (.int .u32 4352)
  c1 : w.cell? ⟨0, 1, none⟩ = some (.int .u32 4370)
  c2 : w.cell? ⟨0, 2, none⟩ = some (.int .u32 4449)
  c3 : w.cell? ⟨0, 3, none⟩ = some (.int .u32 4469)
  c4 : w.cell? ⟨0, 4, none⟩ = some (.int .u32 4520)
  c5 : w.cell? ⟨0, 5, none⟩ = some (.int .u32 4546)
  c6 : w.cell? ⟨0, 6, none⟩ = some (.int .u32 44032)
  c7 : w.cell? ⟨0, 7, none⟩ = some (.int .u32 55203)
theorem HRows.of {w w' : World} (h : HRows w) (k : ∀ i, (w.cell? ⟨0, i, none⟩).isSome → w'.cell? ⟨0, i, none⟩ = w.cell? ⟨0, i, none⟩) : HRows w' :=
  ⟨(k 0 (by rw [h.c0]; rfl)).trans h.c0, (k 1 (by rw [h.c1]; rfl)).trans h.c1, (k 2 (by rw [h.c2]; rfl)).trans h.c2, (k 3 (by rw [h.c3]; rfl)).trans h.c3,
   (k 4 (by rw [h.c4]; rfl)).trans h.c4, (k 5 (by rw [h.c5]; rfl)).trans h.c5, (k 6 (by rw [h.c6]; rfl)).trans h.c6, (k 7 (by rw [h.c7]; rfl)).trans h.c7⟩
theorem HRows.lt {w : World} (h : HRows w) : 0 < w.heap.size := World.block_lt_of_cell? w _ h.c0
theorem HRows.up {w w' : World} (h : HRows w) (u : Up w w') : HRows w' := h.of fun i _ => Below.cell (p := ⟨0, i, none⟩) u h.lt
theorem HRows.drewN {w : World} (h : HRows w) (n : Nat) : HRows (w.drewN n) := ⟨h.c0, h.c1, h.c2, h.c3, h.c4, h.c5, h.c6, h.c7⟩

/-- It only drew. -/
def Drw (w w' : World) : Prop := ∃ n, w' = w.drewN n
theorem Drw.refl (w : World) : Drw w w := ⟨0, rfl⟩
theorem Drw.trans {a b c : World} (h : Drw a b) (k : Drw b c) : Drw a c := by
  obtain ⟨n, rfl⟩ := h
  obtain ⟨m, rfl⟩ := k
  exact ⟨n + m, World.drewN_drewN _ _ _⟩
theorem quiet_one {P : Program} {f : FuncId} {args : Array Value} {w : World} {n : Nat} {v : Value}
    (h : Calls P f args (w.drewN n) fun e w' => e = .returned v ∧ ∃ m, w' = (w.drewN n).drewN m) :
    Calls P f args (w.drewN n) fun e w'' => e = .returned v ∧ ∃ m, w'' = w.drewN m :=
  h.mono fun _ _ ⟨he, m, hm⟩ => ⟨he, n + m, by rw [hm, World.drewN_drewN]⟩
theorem quiet_add {P : Program} {f : FuncId} {args : Array Value} {w : World} {a n : Nat} {v : Value}
    (h : Calls P f args (w.drewN (a + n)) fun e w' => e = .returned v ∧ ∃ m, w' = (w.drewN (a + n)).drewN m) :
    Calls P f args (w.drewN (a + n)) fun e w'' => e = .returned v ∧ ∃ m, w'' = w.drewN (a + m) :=
  h.mono fun _ _ ⟨he, m, hm⟩ => ⟨he, n + m, by rw [hm, World.drewN_drewN, Nat.add_assoc]⟩
theorem Drw.up {a b : World} (h : Drw a b) : Up a b := by obtain ⟨n, rfl⟩ := h; exact (Up.refl a).drewN n

theorem within_0 (c : Nat) (w : World) (h : HRows w) : Calls Tryz.prog 114 #[.int .i64 0, .int .u32 (c : Int)] w fun e w' => e = .returned (.bool (isL c)) ∧ w = w' := by
  have h0 := h.c0
  have h1 := h.c1
  clear h
  go_enter Tryz.func114, Tryz.ntmps114
  go_wp2
  all_goals (go_ret; exact ⟨hg_bool (by rw [Bool.eq_iff_iff, isL_iff]; first | (rw [decide_eq_true_eq]; omega) | (constructor <;> intro h <;> first | (cases h; done) | omega)), rfl⟩)

theorem within_1 (c : Nat) (w : World) (h : HRows w) : Calls Tryz.prog 114 #[.int .i64 1, .int .u32 (c : Int)] w fun e w' => e = .returned (.bool (isV c)) ∧ w = w' := by
  have h0 := h.c2
  have h1 := h.c3
  clear h
  go_enter Tryz.func114, Tryz.ntmps114
  go_wp2
  all_goals (go_ret; exact ⟨hg_bool (by rw [Bool.eq_iff_iff, isV_iff]; first | (rw [decide_eq_true_eq]; omega) | (constructor <;> intro h <;> first | (cases h; done) | omega)), rfl⟩)

theorem within_2 (c : Nat) (w : World) (h : HRows w) : Calls Tryz.prog 114 #[.int .i64 2, .int .u32 (c : Int)] w fun e w' => e = .returned (.bool (isT c)) ∧ w = w' := by
  have h0 := h.c4
  have h1 := h.c5
  clear h
  go_enter Tryz.func114, Tryz.ntmps114
  go_wp2
  all_goals (go_ret; exact ⟨hg_bool (by rw [Bool.eq_iff_iff, isT_iff]; first | (rw [decide_eq_true_eq]; omega) | (constructor <;> intro h <;> first | (cases h; done) | omega)), rfl⟩)

theorem within_3 (c : Nat) (w : World) (h : HRows w) : Calls Tryz.prog 114 #[.int .i64 3, .int .u32 (c : Int)] w fun e w' => e = .returned (.bool (isS c)) ∧ w = w' := by
  have h0 := h.c6
  have h1 := h.c7
  clear h
  go_enter Tryz.func114, Tryz.ntmps114
  go_wp2
  all_goals (go_ret; exact ⟨hg_bool (by rw [Bool.eq_iff_iff, isS_iff]; first | (rw [decide_eq_true_eq]; omega) | (constructor <;> intro h <;> first | (cases h; done) | omega)), rfl⟩)

theorem size_1 (w : World) (h : HRows w) : Calls Tryz.prog 127 #[.int .i64 1] w fun e w' => e = .returned (.int .u32 21) ∧ ∃ n, w' = w.drewN n := by
  have h0 := h.c2
  have h1 := h.c3
  clear h
  go_enter Tryz.func127, Tryz.ntmps127
  go_wp2_with fail
  go_quiet (fail)
  go_wp2_with fail
  go_ret
  exact ⟨rfl, _, rfl⟩

theorem size_2 (w : World) (h : HRows w) : Calls Tryz.prog 127 #[.int .i64 2] w fun e w' => e = .returned (.int .u32 27) ∧ ∃ n, w' = w.drewN n := by
  have h0 := h.c4
  have h1 := h.c5
  clear h
  go_enter Tryz.func127, Tryz.ntmps127
  go_wp2_with fail
  go_quiet (fail)
  go_wp2_with fail
  go_ret
  exact ⟨rfl, _, rfl⟩

theorem endings_prog (w : World) (h : HRows w) : Calls Tryz.prog 128 #[] w fun e w' => e = .returned (.int .u32 28) ∧ ∃ n, w' = w.drewN n := by
  go_enter Tryz.func128, Tryz.ntmps128
  go_wp2_with fail
  refine (size_2 _ h).mono ?_
  rintro e w1 ⟨rfl, n, rfl⟩
  go_wp2_with fail
  go_ret
  exact ⟨rfl, n, rfl⟩

theorem is_prog (c : Nat) (w : World) (h : HRows w) : Calls Tryz.prog 129 #[.int .u32 (c : Int)] w fun e w' => e = .returned (.bool (isS c)) ∧ w = w' := by
  go_enter Tryz.func129, Tryz.ntmps129
  go_wp2_with fail
  refine (within_3 _ _ h).mono ?_
  rintro e w1 ⟨rfl, rfl⟩
  go_wp2_with fail
  go_ret
  exact ⟨rfl, rfl⟩

set_option maxRecDepth 100000 in
theorem split_prog (c : Nat) (w : World) (h : HRows w) : Calls Tryz.prog 113 #[.int .u32 (c : Int)] w fun e w' =>
    e = .returned (.tuple #[.int .u32 (splL c : Int), .int .u32 (splV c : Int), .int .u32 (splT c : Int), .bool (isS c)]) ∧ ∃ n, w' = w.drewN n := by
  have c1 := is_prog c
  by_cases hs : isS c = true
  · have hb := (isS_iff c).1 hs
    obtain ⟨h1, h2⟩ := hb
    have H1 := Lib.hid hs
    have e1 : splL c = 4352 + (c - 44032) / 28 / 21 := by unfold splL; rw [if_pos hs]
    have e2 : splV c = 4449 + (c - 44032) / 28 % 21 := by unfold splV; rw [if_pos hs]
    have e3 : splT c = if (c - 44032) % 28 = 0 then 0 else 4519 + (c - 44032) % 28 := by unfold splT; rw [if_pos hs]
    have E1 := Lib.hid e1
    have E2 := Lib.hid e2
    have E3 := Lib.hid e3
    rw [hs] at c1 ⊢
    clear hs e1 e2 e3
    generalize splL c = x at *
    generalize splV c = y at *
    generalize splT c = z at *
    by_cases h0 : (c - 44032) % 28 = 0
    · have hz : decide ((0 : Int) < ((c : Int) - 44032) % 28) = false := by simp; omega
      have H0 := Lib.hid h0
      clear h0
      have k0 := h.c0
      have k2 := h.c2
      have k4 := h.c4
      have k6 := h.c6
      go_enter Tryz.func113, Tryz.ntmps113
      go_wp2_with fail
      refine (c1 _ h).mono ?_
      rintro e w1 ⟨rfl, rfl⟩
      go_wp2_with fail
      refine (endings_prog _ h).mono ?_
      rintro e w1 ⟨rfl, n1, rfl⟩
      go_wp2_with fail
      refine (endings_prog _ (h.drewN _)).mono ?_
      rintro e w1 ⟨rfl, n2, rfl⟩
      go_wp2_with fail
      go_quiet ((go_at_call 127; first | exact quiet_one (size_1 _ (h.drewN _)) | exact quiet_add (size_1 _ (h.drewN _))))
      go_wp2_with fail
      refine bodyPost_ret (results_tmp4 rfl _ _ _) rfl ?_
      exact ⟨hg_4 (by rw [E1.out]; omega) (by rw [E2.out]; omega) (by rw [E3.out, if_pos H0.out]; rfl) rfl, _, World.drewN_drewN _ _ _⟩
    · have hz : decide ((0 : Int) < ((c : Int) - 44032) % 28) = true := by simp; omega
      have H0 := Lib.hid h0
      clear h0
      have k0 := h.c0
      have k2 := h.c2
      have k4 := h.c4
      have k6 := h.c6
      go_enter Tryz.func113, Tryz.ntmps113
      go_wp2_with fail
      refine (c1 _ h).mono ?_
      rintro e w1 ⟨rfl, rfl⟩
      go_wp2_with fail
      refine (endings_prog _ h).mono ?_
      rintro e w1 ⟨rfl, n1, rfl⟩
      go_wp2_with fail
      refine (endings_prog _ (h.drewN _)).mono ?_
      rintro e w1 ⟨rfl, n2, rfl⟩
      go_wp2_with fail
      go_quiet ((go_at_call 127; first | exact quiet_one (size_1 _ (h.drewN _)) | exact quiet_add (size_1 _ (h.drewN _))))
      go_wp2_with fail
      refine bodyPost_ret (results_tmp4 rfl _ _ _) rfl ?_
      exact ⟨hg_4 (by rw [E1.out]; omega) (by rw [E2.out]; omega) (by rw [E3.out, if_neg H0.out, Int.natCast_add, Int.natCast_emod, Int.natCast_sub h1]; omega) rfl, _, World.drewN_drewN _ _ _⟩
  · have hs' : isS c = false := by simpa using hs
    have e1 : splL c = 0 := by unfold splL; rw [if_neg hs]
    have e2 : splV c = 0 := by unfold splV; rw [if_neg hs]
    have e3 : splT c = 0 := by unfold splT; rw [if_neg hs]
    rw [hs'] at c1
    rw [hs', e1, e2, e3]
    clear hs hs' e1 e2 e3
    go_enter Tryz.func113, Tryz.ntmps113
    go_wp2_with fail
    refine (c1 _ h).mono ?_
    rintro e w1 ⟨rfl, rfl⟩
    go_wp2_with fail
    refine bodyPost_ret (results_tmp4 rfl _ _ _) rfl ?_
    exact ⟨rfl, 0, rfl⟩

set_option maxRecDepth 100000 in
theorem put_prog (l v t : Nat) (w : World) (h : HRows w) : Calls Tryz.prog 112 #[.int .u32 (l : Int), .int .u32 (v : Int), .int .u32 (t : Int)] w fun e w' =>
    e = .returned (.tuple #[.int .u32 (putC l v t : Int), .int .i64 (putE l v t : Int)]) ∧ ∃ n, w' = w.drewN n := by
  have c1 := within_0 l
  have c2 := within_1 v
  have c3 := within_2 t
  by_cases hl : isL l = true
  · by_cases hv : isV v = true
    · by_cases ht0 : t = 0
      · subst ht0
        have hok : putOk l v 0 = true := by unfold putOk; rw [hl, hv]; rfl
        have e1 : putC l v 0 = 44032 + (21 * (l - 4352) + (v - 4449)) * 28 := by unfold putC; rw [if_pos hok, if_pos rfl, Nat.add_zero]
        have e2 : putE l v 0 = 0 := by unfold putE; rw [if_pos hok]
        have E1 := Lib.hid e1
        obtain ⟨h1, h2⟩ := (isL_iff l).1 hl
        obtain ⟨h3, h4⟩ := (isV_iff v).1 hv
        rw [hl] at c1
        rw [hv] at c2
        rw [e2]
        clear hl hv hok e1 e2
        generalize putC l v 0 = x at *
        have k0 := h.c0
        have k2 := h.c2
        have k4 := h.c4
        have k6 := h.c6
        go_enter Tryz.func112, Tryz.ntmps112
        go_wp2_with fail
        refine (c1 _ h).mono ?_
        rintro e w1 ⟨rfl, rfl⟩
        go_wp2_with fail
        refine (c2 _ h).mono ?_
        rintro e w1 ⟨rfl, rfl⟩
        go_wp2_with fail
        go_quiet ((go_at_call 127; first | exact quiet_one (size_1 _ (h.drewN _)) | exact quiet_add (size_1 _ (h.drewN _))))
        go_wp2_with fail
        go_quiet ((go_at_call 128; first | exact quiet_one (endings_prog _ (h.drewN _)) | exact quiet_add (endings_prog _ (h.drewN _))))
        go_wp2_with fail
        go_ret2
        exact ⟨hg_2 (by rw [E1.out]; omega) rfl, _, World.drewN_drewN _ _ _⟩
      · by_cases ht : isT t = true
        · have hok : putOk l v t = true := by unfold putOk; rw [hl, hv, ht]; simp
          have e1 : putC l v t = 44032 + (21 * (l - 4352) + (v - 4449)) * 28 + (t - 4519) := by unfold putC; rw [if_pos hok, if_neg ht0]
          have e2 : putE l v t = 0 := by unfold putE; rw [if_pos hok]
          have E1 := Lib.hid e1
          obtain ⟨h1, h2⟩ := (isL_iff l).1 hl
          obtain ⟨h3, h4⟩ := (isV_iff v).1 hv
          obtain ⟨h5, h6⟩ := (isT_iff t).1 ht
          have hz : ((t : Int) != 0) = true := by simp; omega
          rw [hl] at c1
          rw [hv] at c2
          rw [ht] at c3
          rw [e2]
          clear hl hv hok e1 e2 ht ht0
          generalize putC l v t = x at *
          have k0 := h.c0
          have k2 := h.c2
          have k4 := h.c4
          have k6 := h.c6
          go_enter Tryz.func112, Tryz.ntmps112
          go_wp2_with fail
          refine (c1 _ h).mono ?_
          rintro e w1 ⟨rfl, rfl⟩
          go_wp2_with fail
          refine (c2 _ h).mono ?_
          rintro e w1 ⟨rfl, rfl⟩
          go_wp2_with fail
          refine (c3 _ h).mono ?_
          rintro e w1 ⟨rfl, rfl⟩
          go_wp2_with fail
          go_quiet ((go_at_call 127; first | exact quiet_one (size_1 _ (h.drewN _)) | exact quiet_add (size_1 _ (h.drewN _))))
          go_wp2_with fail
          go_quiet ((go_at_call 128; first | exact quiet_one (endings_prog _ (h.drewN _)) | exact quiet_add (endings_prog _ (h.drewN _))))
          go_wp2_with fail
          go_ret2
          exact ⟨hg_2 (by rw [E1.out]; omega) rfl, _, World.drewN_drewN _ _ _⟩
        · have ht' : isT t = false := by simpa using ht
          have hok : ¬ putOk l v t = true := by unfold putOk; rw [hl, hv, ht']; simp [ht0]
          have e1 : putC l v t = 0 := by unfold putC; rw [if_neg hok]
          have e2 : putE l v t = 2 := by unfold putE; rw [if_neg hok]
          have hz : ((t : Int) != 0) = true := by simp; omega
          rw [hl] at c1
          rw [hv] at c2
          rw [ht'] at c3
          rw [e1, e2]
          clear hl hv hok e1 e2 ht ht0 ht'
          have k0 := h.c0
          have k2 := h.c2
          have k4 := h.c4
          have k6 := h.c6
          go_enter Tryz.func112, Tryz.ntmps112
          go_wp2_with fail
          refine (c1 _ h).mono ?_
          rintro e w1 ⟨rfl, rfl⟩
          go_wp2_with fail
          refine (c2 _ h).mono ?_
          rintro e w1 ⟨rfl, rfl⟩
          go_wp2_with fail
          refine (c3 _ h).mono ?_
          rintro e w1 ⟨rfl, rfl⟩
          go_wp2_with fail
          go_ret2
          exact ⟨rfl, 0, rfl⟩
    · have hv' : isV v = false := by simpa using hv
      have hok : ¬ putOk l v t = true := by unfold putOk; rw [hl, hv']; simp
      have e1 : putC l v t = 0 := by unfold putC; rw [if_neg hok]
      have e2 : putE l v t = 2 := by unfold putE; rw [if_neg hok]
      rw [hl] at c1
      rw [hv'] at c2
      rw [e1, e2]
      clear hl hv hv' hok e1 e2
      have k0 := h.c0
      have k2 := h.c2
      have k4 := h.c4
      have k6 := h.c6
      go_enter Tryz.func112, Tryz.ntmps112
      go_wp2_with fail
      refine (c1 _ h).mono ?_
      rintro e w1 ⟨rfl, rfl⟩
      go_wp2_with fail
      refine (c2 _ h).mono ?_
      rintro e w1 ⟨rfl, rfl⟩
      go_wp2_with fail
      go_ret2
      exact ⟨rfl, 0, rfl⟩
  · have hl' : isL l = false := by simpa using hl
    have hok : ¬ putOk l v t = true := by unfold putOk; rw [hl']; simp
    have e1 : putC l v t = 0 := by unfold putC; rw [if_neg hok]
    have e2 : putE l v t = 2 := by unfold putE; rw [if_neg hok]
    rw [hl'] at c1
    rw [e1, e2]
    clear hl hl' hok e1 e2
    have k0 := h.c0
    have k2 := h.c2
    have k4 := h.c4
    have k6 := h.c6
    go_enter Tryz.func112, Tryz.ntmps112
    go_wp2_with fail
    refine (c1 _ h).mono ?_
    rintro e w1 ⟨rfl, rfl⟩
    go_wp2_with fail
    go_ret2
    exact ⟨rfl, 0, rfl⟩

theorem putE_ok (l v t : Nat) : putE l v t = if putOk l v t = true then 0 else 2 := rfl
set_option maxRecDepth 100000 in
theorem join_prog (a b : Nat) (w : World) (h : HRows w) : Calls Tryz.prog 94 #[.int .u32 (a : Int), .int .u32 (b : Int)] w fun e w' =>
    e = .returned (.tuple #[.int .u32 (joinC a b : Int), .bool (joinOk a b)]) ∧ ∃ n, w' = w.drewN n := by
  have c1 := put_prog a b 0
  have c2 := split_prog a
  have c3 := within_2 b
  have c4 := put_prog (splL a) (splV a) b
  by_cases hlv : lv a b = true
  · have e1 : joinC a b = putC a b 0 := by unfold joinC; rw [if_pos hlv]
    have e2 : joinOk a b = true := by unfold joinOk; rw [hlv]; rfl
    have e3 : putE a b 0 = 0 := by
      unfold putE
      rw [if_pos]
      unfold lv at hlv
      unfold putOk
      rw [hlv]; rfl
    rw [e1, e2]
    rw [e3] at c1
    clear e1 e2 e3 hlv
    generalize putC a b 0 = x at *
    go_enter Tryz.func94, Tryz.ntmps94
    go_wp2_with fail
    refine (c1 _ h).mono ?_
    rintro e w1 ⟨rfl, n1, rfl⟩
    go_wp2_with fail
    go_ret2
    exact ⟨rfl, _, rfl⟩
  · have e3 : putE a b 0 = 2 := by
      unfold putE
      rw [if_neg]
      unfold lv at hlv
      unfold putOk
      simpa using hlv
    rw [e3] at c1
    clear e3
    generalize putC a b 0 = x at *
    by_cases hlvt : lvt a b = true
    · have e1 : joinC a b = putC (splL a) (splV a) b := by unfold joinC; rw [if_neg hlv, if_pos hlvt]
      have e2 : joinOk a b = true := by unfold joinOk; rw [hlvt]; simp
      obtain ⟨g1, g2, g3⟩ := (lvt_iff a b).1 hlvt
      have hs : isS a = true := (isS_iff a).2 g1
      have ht : isT b = true := (isT_iff b).2 g3
      have hz : splT a = 0 := (splT_zero a hs).2 g2
      rw [e1, e2]
      rw [hs, hz] at c2
      rw [ht] at c3
      clear e1 e2 hlv hlvt ht hs hz g1 g2 g3
      generalize splL a = l at *
      generalize splV a = v at *
      generalize putC l v b = y at *
      generalize putE l v b = z at *
      go_enter Tryz.func94, Tryz.ntmps94
      go_wp2_with fail
      refine (c1 _ h).mono ?_
      rintro e w1 ⟨rfl, n1, rfl⟩
      go_wp2_with fail
      refine (c2 _ (h.drewN _)).mono ?_
      rintro e w1 ⟨rfl, n2, rfl⟩
      go_wp2_with fail
      refine (c3 _ (h.drewN _)).mono ?_
      rintro e w1 ⟨rfl, rfl⟩
      go_wp2_with fail
      refine (c4 _ (h.drewN _)).mono ?_
      rintro e w1 ⟨rfl, n4, rfl⟩
      go_wp2_with fail
      go_ret2
      exact ⟨rfl, _, rfl⟩
    · have e1 : joinC a b = 0 := by unfold joinC; rw [if_neg hlv, if_neg hlvt]
      have e2 : joinOk a b = false := by unfold joinOk; rw [Bool.eq_false_iff.2 hlv, Bool.eq_false_iff.2 hlvt]; rfl
      rw [e1, e2]
      clear e1 e2 hlv
      have hlvt' : lvt a b = false := Bool.eq_false_iff.2 hlvt
      clear hlvt
      unfold lvt at hlvt'
      generalize isT b = it at *
      generalize isS a = is at *
      generalize splT a = t at *
      generalize splL a = l at *
      generalize splV a = v at *
      by_cases h0 : t = 0
      · subst h0
        have hx : (is && it) = false := by revert hlvt'; cases is <;> cases it <;> simp
        clear hlvt'
        cases is <;> cases it <;> first | (exfalso; revert hx; simp; done) | skip
        all_goals
          clear hx
          go_enter Tryz.func94, Tryz.ntmps94
          go_wp2_with fail
          refine (c1 _ h).mono ?_
          rintro e w1 ⟨rfl, n1, rfl⟩
          go_wp2_with fail
          refine (c2 _ (h.drewN _)).mono ?_
          rintro e w1 ⟨rfl, n2, rfl⟩
          go_wp2_with (go_at_call 114; refine (c3 _ (h.drewN _)).mono ?_; rintro e w1 ⟨rfl, rfl⟩)
          go_ret2
          exact ⟨rfl, _, rfl⟩
      · have hz : ((t : Int) != 0) = true := by simp; omega
        clear hlvt' h0
        cases is
        all_goals
          go_enter Tryz.func94, Tryz.ntmps94
          go_wp2_with fail
          refine (c1 _ h).mono ?_
          rintro e w1 ⟨rfl, n1, rfl⟩
          go_wp2_with fail
          refine (c2 _ (h.drewN _)).mono ?_
          rintro e w1 ⟨rfl, n2, rfl⟩
          go_wp2_with fail
          go_ret2
          exact ⟨rfl, _, rfl⟩

end Go.Proofs.YtipemmjbgegmfaaGreatDoor
