/- ScanOpens: which bytes are open. -/
import Derived.Test.YtdkegfookbgicaaRop
import Derived.Test.YtdkegfookbgicaaAwk
namespace Go.Proofs.Ytdkegfookbgicaa
open Go.RowKit

theorem opens_walk (w : World) (A : Option Addr) (n c : Nat) (l : List UInt8) (hn : l.length = n) (h : Rd w A c (bs l)) (_hb : c * 1 ≤ 140737488351232) :
    Calls Try.prog 3 #[.slice A n c] w fun e w' => e = .returned (.bool true) ∧ Up w w' := by
  have c1 := open_code A c n l w h hn.symm
  have c2 := fun w1 (hu : Up w w1) => ropen_ref A c n l w1 (h.up hu) hn.symm
  generalize decide (U.opn l) = d at *
  clear hn h _hb
  cases d with
  | true =>
    go_enter Try.func3, Try.ntmps3
    go_wp2_with fail
    refine c1.mono ?_
    rintro e w1 ⟨rfl, hu1⟩
    go_wp2_with fail
    refine (c2 w1 hu1).mono ?_
    rintro e w2 ⟨rfl, hu2⟩
    go_wp2_with fail
    refine (awake_2 _).mono ?_
    rintro e w3 ⟨rfl, hu3⟩
    go_wp2_with fail
    go_ret
    exact ⟨rfl, (hu1.trans hu2).trans hu3⟩
  | false =>
    go_enter Try.func3, Try.ntmps3
    go_wp2_with fail
    refine c1.mono ?_
    rintro e w1 ⟨rfl, hu1⟩
    go_wp2_with fail
    refine (c2 w1 hu1).mono ?_
    rintro e w2 ⟨rfl, hu2⟩
    go_wp2_with fail
    refine (awake_2 _).mono ?_
    rintro e w3 ⟨rfl, hu3⟩
    go_wp2_with fail
    go_ret
    exact ⟨rfl, (hu1.trans hu2).trans hu3⟩

end Go.Proofs.Ytdkegfookbgicaa
