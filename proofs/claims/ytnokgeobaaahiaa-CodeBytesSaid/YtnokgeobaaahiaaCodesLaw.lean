/- The statements CodeCodes and CodeBytes: the walks. -/
import Derived.Test.YtnokgeobaaahiaaCodes
import Derived.Test.YtnokgeobaaahiaaSame
namespace Go.Proofs.Ytnokgeobaaahiaa
open Go.RowKit

theorem CodesP.yes {cs : List Nat} (h : U.Cps cs) {w : World} {e : Ending} {w' : World} (hp : CodesP (U.encs cs) w e w') :
    Up w w' ∧ ∃ A c, e = .returned (.tuple #[.slice A cs.length c, .int .i64 0]) ∧ Rd w' A c (us cs) := by
  obtain ⟨hu, ⟨ds, A, c, hd, he, h1, h2⟩ | ⟨h1, _⟩⟩ := hp
  · have := U.encs_inj h hd he
    subst this
    exact ⟨hu, A, c, h1, h2⟩
  · rw [U.fault_encs h] at h1
    omega
theorem CodesP.no {l : List UInt8} (h : 0 ≤ U.fault l) {w : World} {e : Ending} {w' : World} (hp : CodesP l w e w') :
    Up w w' ∧ e = .returned (.tuple #[.slice none 0 0, .int .i64 6]) := by
  obtain ⟨hu, ⟨ds, A, c, hd, he, h1, h2⟩ | ⟨_, h2⟩⟩ := hp
  · rw [he, U.fault_encs hd] at h
    omega
  · exact ⟨hu, h2⟩
theorem BytesP.yes {l : List Nat} (h : U.Cps l) {w : World} {e : Ending} {w' : World} (hp : BytesP l w e w') :
    Up w w' ∧ ∃ A c, e = .returned (.tuple #[.slice A (U.encs l).length c, .int .i64 0]) ∧ Rd w' A c (bs (U.encs l)) := by
  obtain ⟨hu, ⟨_, h1⟩ | ⟨h1, _⟩⟩ := hp
  · exact ⟨hu, h1⟩
  · exact absurd h h1
theorem BytesP.no {l : List Nat} (h : ¬ U.Cps l) {w : World} {e : Ending} {w' : World} (hp : BytesP l w e w') : Up w w' ∧ e = .returned (.tuple #[.slice none 0 0, .int .i64 2]) := by
  obtain ⟨hu, ⟨h1, _⟩ | ⟨_, h1⟩⟩ := hp
  · exact absurd h1 h
  · exact ⟨hu, h1⟩

set_option maxRecDepth 100000 in
set_option maxHeartbeats 400000 in
theorem codes_walk (w : World) (A : Option Addr) (n c : Nat) (l : List UInt8) (hn : l.length = n) (h : Rd w A c (bs l)) (_hb : c * 1 ≤ 140737488351232) (hub : c ≤ 1048576) :
    Calls Try.prog 5 #[.slice A n c] w fun e w' => e = .returned (.bool true) ∧ Up w w' := by
  have hf := h.fit
  rw [bs_len] at hf
  have hmn : n ≤ 1048576 := by omega
  obtain ⟨A', c', w1, hap, hrd, hu1, _⟩ := elB.copy (m := n) w 23 h (by rw [bs_len]; exact hn.symm) (one_bs l) (by omega) (by omega)
  have Hn := Lib.hid hn
  have HA := Lib.hid hap
  have H := Lib.hid h
  have HR := Lib.hid hrd
  clear hn hf h hrd hap
  by_cases hft : U.fault l < 0
  · obtain ⟨cs, hcs, rfl⟩ := U.right_of hft
    have Hcs := Lib.hid hcs
    clear hft hcs
    go_enter Try.func5, Try.ntmps5
    go_wp2_with (at_builtin; refine wpList_app rfl _ _ _ rfl rfl rfl HA.out ?_)
    refine (codes_code _ _ n _ _ HR.out Hn.out.symm (by omega)).mono ?_
    rintro e w2 hp
    obtain ⟨hu2, B1, d1, rfl, hr1⟩ := hp.yes Hcs.out
    have HR1 := Lib.hid hr1
    clear hp hr1
    go_wp2_with fail
    refine (codes_ref _ _ n _ _ (H.out.up (hu1.trans hu2)) Hn.out.symm (by omega)).mono ?_
    rintro e w3 hp
    obtain ⟨hu3, B2, d2, rfl, hr2⟩ := hp.yes Hcs.out
    have HR2 := Lib.hid hr2
    clear hp hr2
    go_wp2_with fail
    refine (same_ref _ _ _ _ _ cs _ (HR1.out.up hu3) HR2.out rfl).mono ?_
    rintro e w4 ⟨rfl, hu4⟩
    have s1 := (HR.out.up ((hu2.trans hu3).trans hu4)).str (n := n) Hn.out.symm
    have s2 := (H.out.up (((hu1.trans hu2).trans hu3).trans hu4)).str (n := n) Hn.out.symm
    go_wp2_with fail
    refine (awake_1 _).mono ?_
    rintro e w6 ⟨rfl, hu6⟩
    go_wp2_with fail
    go_ret
    exact ⟨rfl, (((hu1.trans hu2).trans hu3).trans hu4).trans hu6⟩
  · have Hft := Lib.hid (show 0 ≤ U.fault l by omega)
    clear hft
    go_enter Try.func5, Try.ntmps5
    go_wp2_with (at_builtin; refine wpList_app rfl _ _ _ rfl rfl rfl HA.out ?_)
    refine (codes_code _ _ n _ _ HR.out Hn.out.symm (by omega)).mono ?_
    rintro e w2 hp
    obtain ⟨hu2, rfl⟩ := hp.no Hft.out
    clear hp
    go_wp2_with fail
    refine (codes_ref _ _ n _ _ (H.out.up (hu1.trans hu2)) Hn.out.symm (by omega)).mono ?_
    rintro e w3 hp
    obtain ⟨hu3, rfl⟩ := hp.no Hft.out
    clear hp
    go_wp2_with fail
    refine (same_ref none none 0 0 0 [] _ (Rd.zero _ _) (Rd.zero _ _) rfl).mono ?_
    rintro e w4 ⟨rfl, hu4⟩
    have s1 := (HR.out.up ((hu2.trans hu3).trans hu4)).str (n := n) Hn.out.symm
    have s2 := (H.out.up (((hu1.trans hu2).trans hu3).trans hu4)).str (n := n) Hn.out.symm
    go_wp2_with fail
    refine (awake_1 _).mono ?_
    rintro e w6 ⟨rfl, hu6⟩
    go_wp2_with fail
    go_ret
    exact ⟨rfl, (((hu1.trans hu2).trans hu3).trans hu4).trans hu6⟩

set_option maxRecDepth 100000 in
set_option maxHeartbeats 400000 in
theorem bytes_walk (w : World) (A : Option Addr) (n c : Nat) (l : List Nat) (hn : l.length = n) (h : Rd w A c (us l)) (_hw : ∀ c ∈ l, c < 4294967296) (hb : c * 4 ≤ 140737488351232) :
    Calls Try.prog 6 #[.slice A n c] w fun e w' => e = .returned (.bool true) ∧ Up w w' := by
  have hf := h.fit
  rw [us_len] at hf
  have hmn : n ≤ 9223372036854775807 := by omega
  obtain ⟨A', c', w1, hap, hrd, hu1, _⟩ := elU.copy (m := n) w 35 h (by rw [us_len]; exact hn.symm) (one_us l) (by omega) (by omega)
  have Hn := Lib.hid hn
  have HA := Lib.hid hap
  have H := Lib.hid h
  have HR := Lib.hid hrd
  have hn4 : n * 4 ≤ 140737488351232 := by omega
  clear hn hf h hrd hap
  by_cases hcs : U.Cps l
  · have Hcs := Lib.hid hcs
    clear hcs
    go_enter Try.func6, Try.ntmps6
    go_wp2_with (at_builtin; refine wpList_app rfl _ _ _ rfl rfl rfl HA.out ?_)
    refine (bytes_code _ _ n _ _ HR.out Hn.out.symm hn4).mono ?_
    rintro e w2 hp
    obtain ⟨hu2, B1, d1, rfl, hr1⟩ := hp.yes Hcs.out
    have HR1 := Lib.hid hr1
    clear hp hr1
    go_wp2_with fail
    refine (bytes_ref _ _ n _ _ (H.out.up (hu1.trans hu2)) Hn.out.symm hn4).mono ?_
    rintro e w3 hp
    obtain ⟨hu3, B2, d2, rfl, hr2⟩ := hp.yes Hcs.out
    have HR2 := Lib.hid hr2
    clear hp hr2
    have s1 := (HR1.out.up hu3).str (n := (U.encs l).length) rfl
    have s2 := HR2.out.str (n := (U.encs l).length) rfl
    go_wp2_with fail
    refine (same_ref _ _ _ _ _ l _ (HR.out.up (hu2.trans hu3)) (H.out.up ((hu1.trans hu2).trans hu3)) Hn.out.symm).mono ?_
    rintro e w4 ⟨rfl, hu4⟩
    go_wp2_with fail
    refine (awake_1 _).mono ?_
    rintro e w6 ⟨rfl, hu6⟩
    go_wp2_with fail
    go_ret
    exact ⟨rfl, (((hu1.trans hu2).trans hu3).trans hu4).trans hu6⟩
  · have Hcs := Lib.hid hcs
    clear hcs
    go_enter Try.func6, Try.ntmps6
    go_wp2_with (at_builtin; refine wpList_app rfl _ _ _ rfl rfl rfl HA.out ?_)
    refine (bytes_code _ _ n _ _ HR.out Hn.out.symm hn4).mono ?_
    rintro e w2 hp
    obtain ⟨hu2, rfl⟩ := hp.no Hcs.out
    clear hp
    go_wp2_with fail
    refine (bytes_ref _ _ n _ _ (H.out.up (hu1.trans hu2)) Hn.out.symm hn4).mono ?_
    rintro e w3 hp
    obtain ⟨hu3, rfl⟩ := hp.no Hcs.out
    clear hp
    have s1 := (Rd.zero w3 none).str (l := []) (n := 0) rfl
    go_wp2_with fail
    refine (same_ref _ _ _ _ _ l _ (HR.out.up (hu2.trans hu3)) (H.out.up ((hu1.trans hu2).trans hu3)) Hn.out.symm).mono ?_
    rintro e w4 ⟨rfl, hu4⟩
    go_wp2_with fail
    refine (awake_1 _).mono ?_
    rintro e w6 ⟨rfl, hu6⟩
    go_wp2_with fail
    go_ret
    exact ⟨rfl, (((hu1.trans hu2).trans hu3).trans hu4).trans hu6⟩

end Go.Proofs.Ytnokgeobaaahiaa
