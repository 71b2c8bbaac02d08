/- The document's syllables: what its functions answer. -/
import Derived.Test.YthdhlcafomhdbaaDoorHgp
import Derived.Test.YthdhlcafomhdbaaDoorPi
import Derived.Lib.Hide
import Derived.OwnWalk
import Derived.Outline
namespace Go.Proofs.YthdhlcafomhdbaaDoor
open Go.RowKit

theorem hg_val {x y : Value} (h : x = y) : Ending.returned x = .returned y := by rw [h]
theorem hg_u32 {a b : Int} (h : a = b) : Value.int .u32 a = .int .u32 b := by rw [h]
theorem hg_bool {a b : Bool} (h : a = b) : Ending.returned (.bool a) = .returned (.bool b) := by rw [h]
theorem hg_2 {a a' : Int} {b b' : Value} (h1 : a = a') (h2 : b = b') : Ending.returned (.tuple #[.int .u32 a, b]) = .returned (.tuple #[.int .u32 a', b']) := by rw [h1, h2]
theorem hg_4 {a b c a' b' c' : Int} {d d' : Bool} (h1 : a = a') (h2 : b = b') (h3 : c = c') (h4 : d = d') :
    Ending.returned (.tuple #[.int .u32 a, .int .u32 b, .int .u32 c, .bool d]) = .returned (.tuple #[.int .u32 a', .int .u32 b', .int .u32 c', .bool d']) := by rw [h1, h2, h3, h4]
theorem results_tmp4 {fn : Func} {t u v x : Tmp} (h : fn.results = #[.tmp t, .tmp u, .tmp v, .tmp x]) (tmps : Array Value) (P : Program) (w : World) :
    (results fn tmps).run P w = .ok (.tuple #[tmps.getD t undef, tmps.getD u undef, tmps.getD v undef, tmps.getD x undef]) w := by simp [results, h]

theorem is_ref4 (c : Nat) (w : World) : Calls Tryd.prog 31 #[.int .u32 (c : Int)] w fun e w' => e = .returned (.bool (isS c)) ∧ w = w' := by
  go_enter Tryd.func31, Tryd.ntmps31
  go_wp2
  all_goals (go_ret; exact ⟨hg_bool (by rw [Bool.eq_iff_iff, isS_iff]; first | (rw [decide_eq_true_eq]; omega) | (constructor <;> intro h <;> first | (cases h; done) | omega)), rfl⟩)
theorem split_ref (c : Nat) (w : World) : Calls Tryd.prog 25 #[.int .u32 (c : Int)] w fun e w' =>
    e = .returned (.tuple #[.int .u32 (splL c : Int), .int .u32 (splV c : Int), .int .u32 (splT c : Int), .bool (isS c)]) ∧ w = w' := by
  have c1 := is_ref4 c
  by_cases hs : isS c = true
  · have hb := (isS_iff c).1 hs
    obtain ⟨h1, h2⟩ := hb
    have H1 := Lib.hid hs
    have e1 : splL c = 4352 + (c - 44032) / 28 / 21 := by unfold splL; rw [if_pos hs]
    have e2 : splV c = 4449 + (c - 44032) / 28 % 21 := by unfold splV; rw [if_pos hs]
    have e3 : splT c = if (c - 44032) % 28 = 0 then 0 else 4519 + (c - 44032) % 28 := by unfold splT; rw [if_pos hs]
    have E1 := Lib.hid e1
    have E2 := Lib.hid e2
    have E3 := Lib.hid e3
    rw [hs] at c1 ⊢
    clear hs e1 e2 e3
    generalize splL c = x at *
    generalize splV c = y at *
    generalize splT c = z at *
    by_cases h0 : (c - 44032) % 28 = 0
    · have hz : (((c : Int) - 44032) % 28 != 0) = false := by simp; omega
      have H0 := Lib.hid h0
      clear h0
      go_enter Tryd.func25, Tryd.ntmps25
      go_wp2_with fail
      refine (c1 _).mono ?_
      rintro e w1 ⟨rfl, rfl⟩
      go_wp2_with fail
      refine bodyPost_ret (results_tmp4 rfl _ _ _) rfl ?_
      exact ⟨hg_4 (by rw [E1.out]; omega) (by rw [E2.out]; omega) (by rw [E3.out, if_pos H0.out]; have := H0.out; omega) rfl, rfl⟩
    · have hz : (((c : Int) - 44032) % 28 != 0) = true := by simp; omega
      have H0 := Lib.hid h0
      clear h0
      go_enter Tryd.func25, Tryd.ntmps25
      go_wp2_with fail
      refine (c1 _).mono ?_
      rintro e w1 ⟨rfl, rfl⟩
      go_wp2_with fail
      refine bodyPost_ret (results_tmp4 rfl _ _ _) rfl ?_
      exact ⟨hg_4 (by rw [E1.out]; omega) (by rw [E2.out]; omega) (by rw [E3.out, if_neg H0.out, Int.natCast_add, Int.natCast_emod, Int.natCast_sub h1]; rfl) rfl, rfl⟩
  · have hs' : isS c = false := by simpa using hs
    have e1 : splL c = 0 := by unfold splL; rw [if_neg hs]
    have e2 : splV c = 0 := by unfold splV; rw [if_neg hs]
    have e3 : splT c = 0 := by unfold splT; rw [if_neg hs]
    rw [hs'] at c1
    rw [hs', e1, e2, e3]
    clear hs hs' e1 e2 e3
    go_enter Tryd.func25, Tryd.ntmps25
    go_wp2_with fail
    refine (c1 _).mono ?_
    rintro e w1 ⟨rfl, rfl⟩
    go_wp2_with fail
    refine bodyPost_ret (results_tmp4 rfl _ _ _) rfl ?_
    exact ⟨rfl, rfl⟩

end Go.Proofs.YthdhlcafomhdbaaDoor
