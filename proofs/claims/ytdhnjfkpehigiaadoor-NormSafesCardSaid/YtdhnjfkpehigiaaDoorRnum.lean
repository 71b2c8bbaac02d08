/- The document's number: what so many bytes would stand for. -/
import Derived.Test.YtdhnjfkpehigiaaDoorRput
import Derived.Test.YtdhnjfkpehigiaaDoorFault
namespace Go.Proofs.YtdhnjfkpehigiaaDoor
open Go.RowKit

/-- What number leaves: some value; if p holds of a code point, that code point, and yes. -/
def NumP (p : Nat → Prop) (w : World) (e : Ending) (w' : World) : Prop :=
  ∃ (v : Int) (ok : Bool), e = .returned (.tuple #[.int .u32 v, .bool ok]) ∧ w = w' ∧ 0 ≤ v ∧ v < 4294967296 ∧ ∀ c, p c → v = c ∧ ok = true

theorem number_1 (a : Addr) (c n : Nat) (w : World) (hm : 1 ≤ n) (hmx : n ≤ 9223372036854775807) (x0 : Nat) (hx0 : x0 < 256) (hc0 : w.cell? a = some (.int .u8 (x0 : Int))) :
    Calls Tryd.prog 98 #[.slice (some a) n c, .int .i64 1] w (NumP (fun c => x0 = c) w) := by
  go_enter Tryd.func98, Tryd.ntmps98
  go_wp2
  refine wp_loop_rounds 1 ?_
  rw [rounds_succ]
  go_wp2
  go_ret2
  exact ⟨_, _, rfl, rfl, by omega, by omega, fun c h => ⟨by omega, rfl⟩⟩

set_option maxRecDepth 100000 in
theorem number_2 (a : Addr) (c n : Nat) (w : World) (hm : 2 ≤ n) (hmx : n ≤ 9223372036854775807) (x0 x1 : Nat) (hx0 : x0 < 256) (hx1 : x1 < 256) 
    (hc0 : w.cell? a = some (.int .u8 (x0 : Int))) (hc1 : w.cell? ⟨a.block, a.off + 1, none⟩ = some (.int .u8 (x1 : Int))) :
    Calls Tryd.prog 98 #[.slice (some a) n c, .int .i64 2] w (NumP (fun c => c < 2048 ∧ x0 = 192 + c / 64 ∧ x1 = 128 + c % 64) w) := by
  go_enter Tryd.func98, Tryd.ntmps98
  go_wp2
  refine wp_loop_rounds 2 ?_
  rw [rounds_succ]
  go_wp2
  all_goals first
    | (rw [rounds_succ]; go_wp2; go_ret2; exact ⟨_, _, rfl, rfl, by omega, by omega, fun c h => ⟨by omega, rfl⟩⟩)
    | (go_ret2; exact ⟨_, _, rfl, rfl, by omega, by omega, fun c h => by omega⟩)

set_option maxRecDepth 100000 in
set_option maxHeartbeats 400000 in
theorem number_3 (a : Addr) (c n : Nat) (w : World) (hm : 3 ≤ n) (hmx : n ≤ 9223372036854775807) (x0 x1 x2 : Nat) (hx0 : x0 < 256) (hx1 : x1 < 256) (hx2 : x2 < 256)
    (hc0 : w.cell? a = some (.int .u8 (x0 : Int))) (hc1 : w.cell? ⟨a.block, a.off + 1, none⟩ = some (.int .u8 (x1 : Int))) (hc2 : w.cell? ⟨a.block, a.off + 2, none⟩ = some (.int .u8 (x2 : Int))) :
    Calls Tryd.prog 98 #[.slice (some a) n c, .int .i64 3] w (NumP (fun c => c < 65536 ∧ x0 = 224 + c / 4096 ∧ x1 = 128 + c / 64 % 64 ∧ x2 = 128 + c % 64) w) := by
  go_enter Tryd.func98, Tryd.ntmps98
  go_wp2
  refine wp_loop_rounds 3 ?_
  rw [rounds_succ]
  go_wp2
  all_goals first
    | (rw [rounds_succ]; go_wp2
       all_goals first
         | (rw [rounds_succ]; go_wp2; go_ret2; exact ⟨_, _, rfl, rfl, by omega, by omega, fun c h => ⟨by omega, rfl⟩⟩)
         | (go_ret2; exact ⟨_, _, rfl, rfl, by omega, by omega, fun c h => by omega⟩))
    | (go_ret2; exact ⟨_, _, rfl, rfl, by omega, by omega, fun c h => by omega⟩)

set_option maxRecDepth 100000 in
set_option maxHeartbeats 800000 in
theorem number_4 (a : Addr) (c n : Nat) (w : World) (hm : 4 ≤ n) (hmx : n ≤ 9223372036854775807) (x0 x1 x2 x3 : Nat) (hx0 : x0 < 256) (hx1 : x1 < 256) (hx2 : x2 < 256) (hx3 : x3 < 256)
    (hc0 : w.cell? a = some (.int .u8 (x0 : Int))) (hc1 : w.cell? ⟨a.block, a.off + 1, none⟩ = some (.int .u8 (x1 : Int))) (hc2 : w.cell? ⟨a.block, a.off + 2, none⟩ = some (.int .u8 (x2 : Int))) (hc3 : w.cell? ⟨a.block, a.off + 3, none⟩ = some (.int .u8 (x3 : Int))) :
    Calls Tryd.prog 98 #[.slice (some a) n c, .int .i64 4] w (NumP (fun c => c ≤ 1114111 ∧ x0 = 240 + c / 262144 ∧ x1 = 128 + c / 4096 % 64 ∧ x2 = 128 + c / 64 % 64 ∧ x3 = 128 + c % 64) w) := by
  go_enter Tryd.func98, Tryd.ntmps98
  go_wp2
  refine wp_loop_rounds 4 ?_
  rw [rounds_succ]
  go_wp2
  all_goals first
    | (rw [rounds_succ]; go_wp2
       all_goals first
         | (rw [rounds_succ]; go_wp2
            all_goals first
              | (rw [rounds_succ]; go_wp2; go_ret2; exact ⟨_, _, rfl, rfl, by omega, by omega, fun c h => ⟨by omega, rfl⟩⟩)
              | (go_ret2; exact ⟨_, _, rfl, rfl, by omega, by omega, fun c h => by omega⟩))
         | (go_ret2; exact ⟨_, _, rfl, rfl, by omega, by omega, fun c h => by omega⟩))
    | (go_ret2; exact ⟨_, _, rfl, rfl, by omega, by omega, fun c h => by omega⟩)
end Go.Proofs.YtdhnjfkpehigiaaDoor
