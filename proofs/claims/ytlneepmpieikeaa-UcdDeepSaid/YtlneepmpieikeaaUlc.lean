/- The statement UcdFirsts: the walk. Written by program (wip/tools/ufi.py). -/
import Derived.Test.YtlneepmpieikeaaUlb
namespace Go.Proofs.Ytlneepmpieikeaa
open Go.RowKit

theorem start_facts {c : Nat} (h : startOf c = true) : clsOf c = 0 ∧ (decOk c = true → cmpOf c = true) := by
  unfold startOf at h
  rw [Bool.and_eq_true, decide_eq_true_eq, decide_eq_true_eq] at h
  refine ⟨h.1, fun hk => ?_⟩
  have h2 := h.2
  unfold quickOf at h2
  unfold decOk at hk
  split at h2
  · omega
  · rename_i hn
    cases hm : cmpOf c with
    | true => rfl
    | false => exact absurd ⟨of_decide_eq_true hk, hm⟩ hn

set_option maxRecDepth 100000 in
set_option maxHeartbeats 1600000 in
theorem firsts_of (H : UcdOk) (c a : Nat) (w : World) : Calls Try.prog 8 #[.int .u32 (c : Int), .int .u32 (a : Int)] w fun e w' => e = .returned (.bool true) ∧ Up w w' := by
  have c1 := fun w => H.dec c w
  have c2 := fun w => H.cmp c w
  have c3 := fun w => H.cls c w
  have c4 := fun w => H.cls (decA c) w
  have c5 := fun w => H.starts c w
  have c6 := fun w => H.pair a c w
  have c7 := fun w => awake_3 H w
  clear H
  have f1 := Lib.hid (fun h => firsts (c := c) h)
  have f2 := Lib.hid (fun h => start_facts (c := c) h)
  have f3 := Lib.hid (fun (h : startOf c = true) (x : Nat) => starts_none (a := a) (x := x) h)
  generalize decA c = d at *
  generalize decB c = d2 at *
  generalize decOk c = ok at *
  generalize cmpOf c = m at *
  generalize startOf c = s at *
  generalize clsOf c = k at *
  generalize clsOf d = k2 at *
  cases ok with
  | false =>
    cases s with
    | false =>
      clear f1 f2
      go_enter Try.func8, Try.ntmps8
      go_wp2_with fail
      refine (c1 _).mono ?_
      rintro e w1 ⟨rfl, hu1⟩
      go_wp2_with fail
      refine (c5 _).mono ?_
      rintro e w2 ⟨rfl, hu2⟩
      go_wp2_with fail
      refine (c7 _).mono ?_
      rintro e w3 ⟨rfl, hu3⟩
      go_wp2_with fail
      go_ret
      exact ⟨rfl, ((hu1).trans hu2).trans hu3⟩
    | true =>
      obtain ⟨rfl, _⟩ := f2.out rfl
      clear f1 f2
      go_enter Try.func8, Try.ntmps8
      go_wp2_with fail
      refine (c1 _).mono ?_
      rintro e w1 ⟨rfl, hu1⟩
      go_wp2_with fail
      refine (c5 _).mono ?_
      rintro e w2 ⟨rfl, hu2⟩
      go_wp2_with fail
      refine (c6 _).mono ?_
      rintro e w3 ⟨x, is, rfl, hp, hu3⟩
      have hi : is = false := by
        cases is with
        | false => rfl
        | true => exact absurd hp (f3.out (by trivial) x)
      subst hi
      clear hp f3
      go_wp2_with fail
      refine (c3 _).mono ?_
      rintro e w4 ⟨rfl, hu4⟩
      go_wp2_with fail
      refine (c7 _).mono ?_
      rintro e w5 ⟨rfl, hu5⟩
      go_wp2_with fail
      go_ret
      exact ⟨rfl, ((((hu1).trans hu2).trans hu3).trans hu4).trans hu5⟩
  | true =>
    cases m with
    | false =>
      cases s with
      | false =>
        clear f1 f2
        go_enter Try.func8, Try.ntmps8
        go_wp2_with fail
        refine (c1 _).mono ?_
        rintro e w1 ⟨rfl, hu1⟩
        go_wp2_with fail
        refine (c2 _).mono ?_
        rintro e w2 ⟨rfl, hu2⟩
        go_wp2_with fail
        refine (c5 _).mono ?_
        rintro e w3 ⟨rfl, hu3⟩
        go_wp2_with fail
        refine (c7 _).mono ?_
        rintro e w4 ⟨rfl, hu4⟩
        go_wp2_with fail
        go_ret
        exact ⟨rfl, (((hu1).trans hu2).trans hu3).trans hu4⟩
      | true =>
        exact absurd ((f2.out rfl).2 rfl) (by decide)
    | true =>
      cases s with
      | false =>
        obtain ⟨rfl, rfl⟩ := f1.out rfl
        clear f1 f2
        go_enter Try.func8, Try.ntmps8
        go_wp2_with fail
        refine (c1 _).mono ?_
        rintro e w1 ⟨rfl, hu1⟩
        go_wp2_with fail
        refine (c2 _).mono ?_
        rintro e w2 ⟨rfl, hu2⟩
        go_wp2_with fail
        refine (c4 _).mono ?_
        rintro e w3 ⟨rfl, hu3⟩
        go_wp2_with fail
        refine (c3 _).mono ?_
        rintro e w4 ⟨rfl, hu4⟩
        go_wp2_with fail
        refine (c5 _).mono ?_
        rintro e w5 ⟨rfl, hu5⟩
        go_wp2_with fail
        refine (c7 _).mono ?_
        rintro e w6 ⟨rfl, hu6⟩
        go_wp2_with fail
        go_ret
        exact ⟨rfl, (((((hu1).trans hu2).trans hu3).trans hu4).trans hu5).trans hu6⟩
      | true =>
        obtain ⟨rfl, rfl⟩ := f1.out rfl
        clear f1 f2
        go_enter Try.func8, Try.ntmps8
        go_wp2_with fail
        refine (c1 _).mono ?_
        rintro e w1 ⟨rfl, hu1⟩
        go_wp2_with fail
        refine (c2 _).mono ?_
        rintro e w2 ⟨rfl, hu2⟩
        go_wp2_with fail
        refine (c4 _).mono ?_
        rintro e w3 ⟨rfl, hu3⟩
        go_wp2_with fail
        refine (c3 _).mono ?_
        rintro e w4 ⟨rfl, hu4⟩
        go_wp2_with fail
        refine (c5 _).mono ?_
        rintro e w5 ⟨rfl, hu5⟩
        go_wp2_with fail
        refine (c6 _).mono ?_
        rintro e w6 ⟨x, is, rfl, hp, hu6⟩
        have hi : is = false := by
          cases is with
          | false => rfl
          | true => exact absurd hp (f3.out (by trivial) x)
        subst hi
        clear hp f3
        go_wp2_with fail
        refine (c3 _).mono ?_
        rintro e w7 ⟨rfl, hu7⟩
        go_wp2_with fail
        refine (c2 _).mono ?_
        rintro e w8 ⟨rfl, hu8⟩
        go_wp2_with fail
        refine (c7 _).mono ?_
        rintro e w9 ⟨rfl, hu9⟩
        go_wp2_with fail
        go_ret
        exact ⟨rfl, ((((((((hu1).trans hu2).trans hu3).trans hu4).trans hu5).trans hu6).trans hu7).trans hu8).trans hu9⟩

end Go.Proofs.Ytlneepmpieikeaa
