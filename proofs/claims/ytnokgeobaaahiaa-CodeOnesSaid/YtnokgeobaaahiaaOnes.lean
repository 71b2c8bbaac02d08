/- The statement CodeOnes: the walk. -/
import Derived.Test.YtnokgeobaaahiaaRfault
import Derived.Test.YtnokgeobaaahiaaApp
import Derived.Test.YtnokgeobaaahiaaAwake
namespace Go.Proofs.Ytnokgeobaaahiaa
open Go.RowKit

set_option maxRecDepth 100000 in
set_option maxHeartbeats 400000 in
theorem ones_walk (w : World) (A : Option Addr) (n c : Nat) (l : List UInt8) (hn : l.length = n) (h : Rd w A c (bs l)) (hb : c * 1 ≤ 140737488351232) :
    Calls Try.prog 4 #[.slice A n c] w fun e w' => e = .returned (.bool true) ∧ Up w w' := by
  have hf := h.fit
  rw [bs_len] at hf
  have hmn : n ≤ 9223372036854775807 := by omega
  obtain ⟨A', c', w1, hap, hrd, hu1, _⟩ := elB.copy (m := n) w 23 h (by rw [bs_len]; exact hn.symm) (one_bs l) (by omega) (by omega)
  have Hn := Lib.hid hn
  have HA := Lib.hid hap
  clear hap
  have H := Lib.hid h
  have HR := Lib.hid hrd
  clear hn hf hb h hrd
  go_enter Try.func4, Try.ntmps4
  go_wp2_with (at_builtin; refine wpList_app rfl _ _ _ rfl rfl rfl HA.out ?_)
  refine (one_code _ _ n l _ HR.out Hn.out.symm).mono ?_
  rintro e w2 ⟨rfl, hu2⟩
  go_wp2_with fail
  refine (one_ref _ _ n l _ (H.out.up (hu1.trans hu2)) Hn.out.symm).mono ?_
  rintro e w3 ⟨rfl, hu3⟩
  generalize U.one l = o
  go_wp2_with fail
  refine (fault_code _ _ n l _ (HR.out.up (hu2.trans hu3)) Hn.out.symm).mono ?_
  rintro e w4 ⟨rfl, hu4⟩
  go_wp2_with fail
  refine (fault_ref _ _ n l _ (H.out.up (((hu1.trans hu2).trans hu3).trans hu4)) Hn.out.symm).mono ?_
  rintro e w5 ⟨rfl, hu5⟩
  have s1 := (HR.out.up (((hu2.trans hu3).trans hu4).trans hu5)).str (n := n) Hn.out.symm
  have s2 := (H.out.up ((((hu1.trans hu2).trans hu3).trans hu4).trans hu5)).str (n := n) Hn.out.symm
  go_wp2_with fail
  refine (awake_1 _).mono ?_
  rintro e w6 ⟨rfl, hu6⟩
  go_wp2_with fail
  go_ret
  exact ⟨rfl, ((((hu1.trans hu2).trans hu3).trans hu4).trans hu5).trans hu6⟩

end Go.Proofs.Ytnokgeobaaahiaa
