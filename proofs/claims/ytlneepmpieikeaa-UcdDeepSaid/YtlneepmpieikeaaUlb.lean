/- The statements UcdBack, UcdFirsts: the walks. -/
import Derived.Test.YtlneepmpieikeaaUaw
namespace Go.Proofs.Ytlneepmpieikeaa
open Go.RowKit

theorem ok_of {c : Nat} (h : rowOf c ≠ 0) : decOk c = true := by unfold decOk; exact decide_eq_true h

set_option maxRecDepth 100000 in
set_option maxHeartbeats 800000 in
theorem back_of (H : UcdOk) (a b c : Nat) (w : World) : Calls Try.prog 7 #[.int .u32 (a : Int), .int .u32 (b : Int), .int .u32 (c : Int)] w fun e w' => e = .returned (.bool true) ∧ Up w w' := by
  have c1 := fun w => H.pair a b w
  have c2 := fun x w => H.dec x w
  have c3 := fun x w => H.cmp x w
  have c4 := fun x w => H.sec x w
  have c5 := fun w => H.pair (decA c) (decB c) w
  have c6 := fun w => awake_3 H w
  clear H
  have tail : ∀ (m : Bool), cmpOf c = m → ∀ (y : Nat) (fine : Bool), PairP parL (decA c) (decB c) y fine → m = true → decOk c = true ∧ fine = true ∧ y = c ∧ decB c ≠ 0 := fun m hm y fine hp ht => by
    subst ht
    obtain ⟨h1, h2, h3⟩ := comp_back hm
    obtain ⟨rfl, rfl⟩ := pair_uniq hp h2
    exact ⟨ok_of h1, rfl, rfl, h3⟩
  obtain ⟨m, hm⟩ : ∃ m, cmpOf c = m := ⟨_, rfl⟩
  have c3c := fun w => c3 c w
  have c2c := fun w => c2 c w
  rw [hm] at c3c
  have HT := Lib.hid (tail m hm)
  clear tail hm
  generalize decA c = p at *
  generalize decB c = q at *
  generalize decOk c = is at *
  go_enter Try.func7, Try.ntmps7
  go_wp2_with fail
  refine (c1 _).mono ?_
  rintro e w1 ⟨x, ok, rfl, hp, hu1⟩
  have fin : ∀ (w2 : World), Up w w2 → True := fun _ _ => trivial
  cases ok with
  | true =>
    obtain ⟨k1, k2, k3, k4, k5⟩ := pair_back hp
    have d2 := fun w => c2 x w
    have d3 := fun w => c3 x w
    have d4 := fun w => c4 b w
    rw [k2, k3, ok_of k1] at d2
    rw [k4] at d3
    rw [k5] at d4
    clear k1 k2 k3 k4 k5 hp c2 c3 c4
    go_wp2_with fail
    refine (d2 _).mono ?_
    rintro e w2 ⟨rfl, hu2⟩
    go_wp2_with fail
    refine (d3 _).mono ?_
    rintro e w3 ⟨rfl, hu3⟩
    go_wp2_with fail
    refine (d4 _).mono ?_
    rintro e w4 ⟨rfl, hu4⟩
    go_wp2_with fail
    refine (c2c _).mono ?_
    rintro e w5 ⟨rfl, hu5⟩
    go_wp2_with fail
    refine (c5 _).mono ?_
    rintro e w6 ⟨y, fine, rfl, hq, hu6⟩
    have ht := HT.out y fine hq
    clear HT hq
    have hu := ((((hu1.trans hu2).trans hu3).trans hu4).trans hu5).trans hu6
    cases m with
    | true =>
      obtain ⟨rfl, rfl, rfl, hne⟩ := ht rfl
      have hb : ((q : Int) != 0) = true := by simp; omega
      go_wp2_with fail
      refine (c3c _).mono ?_
      rintro e w7 ⟨rfl, hu7⟩
      go_wp2_with fail
      refine (c6 _).mono ?_
      rintro e w8 ⟨rfl, hu8⟩
      go_wp2_with fail
      go_ret
      exact ⟨rfl, (hu.trans hu7).trans hu8⟩
    | false =>
      clear ht
      go_wp2_with fail
      refine (c3c _).mono ?_
      rintro e w7 ⟨rfl, hu7⟩
      go_wp2_with fail
      refine (c6 _).mono ?_
      rintro e w8 ⟨rfl, hu8⟩
      go_wp2_with fail
      go_ret
      exact ⟨rfl, (hu.trans hu7).trans hu8⟩
  | false =>
    clear hp c2 c3 c4
    go_wp2_with fail
    refine (c2c _).mono ?_
    rintro e w5 ⟨rfl, hu5⟩
    go_wp2_with fail
    refine (c5 _).mono ?_
    rintro e w6 ⟨y, fine, rfl, hq, hu6⟩
    have ht := HT.out y fine hq
    clear HT hq
    have hu := (hu1.trans hu5).trans hu6
    cases m with
    | true =>
      obtain ⟨rfl, rfl, rfl, hne⟩ := ht rfl
      have hb : ((q : Int) != 0) = true := by simp; omega
      go_wp2_with fail
      refine (c3c _).mono ?_
      rintro e w7 ⟨rfl, hu7⟩
      go_wp2_with fail
      refine (c6 _).mono ?_
      rintro e w8 ⟨rfl, hu8⟩
      go_wp2_with fail
      go_ret
      exact ⟨rfl, (hu.trans hu7).trans hu8⟩
    | false =>
      clear ht
      go_wp2_with fail
      refine (c3c _).mono ?_
      rintro e w7 ⟨rfl, hu7⟩
      go_wp2_with fail
      refine (c6 _).mono ?_
      rintro e w8 ⟨rfl, hu8⟩
      go_wp2_with fail
      go_ret
      exact ⟨rfl, (hu.trans hu7).trans hu8⟩

end Go.Proofs.Ytlneepmpieikeaa
