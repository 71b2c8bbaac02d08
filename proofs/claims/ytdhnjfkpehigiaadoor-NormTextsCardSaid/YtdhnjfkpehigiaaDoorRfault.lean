/- The document's One of any bytes, and its Fault. -/
import Derived.Test.YtdhnjfkpehigiaaDoorRtwo
namespace Go.Proofs.YtdhnjfkpehigiaaDoor
open Go.RowKit

theorem one_ref (A : Option Addr) (c n : Nat) (l : List UInt8) (w : World) (h : Rd w A c (bs l)) (hn : n = l.length) :
    Calls Tryd.prog 72 #[.slice A n c] w fun e w' => e = .returned (.tuple #[.int .u32 (U.one l).1, .int .i64 (U.one l).2]) ∧ Up w w' := by
  cases A with
  | some a => exact one_ref_pos a c n l w h hn
  | none =>
    have hc : c = 0 := by
      rcases Nat.eq_zero_or_pos c with h0 | h0
      · exact h0
      · obtain ⟨a, ha, _⟩ := h.ad h0; cases ha
    have hl : l = [] := by
      have := h.fit
      rw [bs_len] at this
      exact List.eq_nil_of_length_eq_zero (by omega)
    subst hl
    subst hn
    subst hc
    rw [U.one_nil]
    clear h
    go_enter Tryd.func72, Tryd.ntmps72
    go_wp2
    refine wp_loop_rounds 1 ?_
    rw [rounds_succ]
    go_wp2
    go_ret2
    exact ⟨ret_two rfl rfl, Up.refl w⟩

end Go.Proofs.YtdhnjfkpehigiaaDoor
