/- The widths: code.Width, and the document's own Is and Width, as plain functions of a number. -/
import Derived.Test.YtdkegfookbgicaaRows
import Derived.WalkKit
import Derived.ProofKit
import Derived.Lib.Hide
import Derived.Outline
import Derived.Deep.QuietTactic
import Derived.BigQuiet
namespace Go.Proofs.Ytdkegfookbgicaa
open Go.RowKit

theorem ret_int {k : IntKind} {a b : Int} (h : a = b) : Ending.returned (.int k a) = .returned (.int k b) := by rw [h]
theorem ret_bool {a b : Bool} (h : a = b) : Ending.returned (.bool a) = .returned (.bool b) := by rw [h]

/-- Is a number a code point? -/
def isB (c : Int) : Bool := decide (c ≤ 1114111) && (decide (c < 55296) || decide (57343 < c))

/-- How many bytes a code point has; 0 of other numbers. -/
def widthI (c : Int) : Int := if c < 128 then 1 else if c < 2048 then 2 else if (55296 ≤ c ∧ c ≤ 57343) ∨ 1114111 < c then 0 else if c < 65536 then 3 else 4

theorem width_code (c : Int) (w : World) : Calls Try.prog 36 #[.int .u32 c] w fun e w' => e = .returned (.int .i64 (widthI c)) ∧ w = w' := by
  go_enter Try.func36, Try.ntmps36
  go_wp2
  all_goals (go_ret; exact ⟨ret_int (by unfold widthI; repeat' split; all_goals omega), rfl⟩)

theorem is_ref (c : Int) (w : World) : Calls Try.prog 37 #[.int .u32 c] w fun e w' => e = .returned (.bool (isB c)) ∧ w = w' := by
  go_enter Try.func37, Try.ntmps37
  go_wp2
  all_goals (go_ret; exact ⟨ret_bool (by unfold isB; simp; try omega), rfl⟩)

theorem width_ref (c : Int) (w : World) : Calls Try.prog 34 #[.int .u32 c] w fun e w' => e = .returned (.int .i64 (widthI c)) ∧ w = w' := by
  by_cases hi : isB c = true
  · have H := Lib.hid hi; clear hi
    go_enter Try.func34, Try.ntmps34
    go_wp2_with (go_at_call 37; refine (is_ref _ _).mono ?_; rintro e w' ⟨rfl, rfl⟩; rw [H.out])
    all_goals (go_ret; exact ⟨ret_int (by have h := H.out; clear H; simp [isB] at h; unfold widthI; repeat' split; all_goals omega), rfl⟩)
  · have H := Lib.hid (show isB c = false by simpa using hi)
    clear hi
    go_enter Try.func34, Try.ntmps34
    go_wp2_with (go_at_call 37; refine (is_ref _ _).mono ?_; rintro e w' ⟨rfl, rfl⟩; rw [H.out])
    all_goals (go_ret; exact ⟨ret_int (by have h := H.out; clear H; simp [isB] at h; unfold widthI; repeat' split; all_goals omega), rfl⟩)

end Go.Proofs.Ytdkegfookbgicaa
