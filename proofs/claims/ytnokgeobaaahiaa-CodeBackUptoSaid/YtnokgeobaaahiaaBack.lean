/- The statement CodeBack: the walk. Written by program (wip/tools/back.py). -/
import Derived.Test.YtnokgeobaaahiaaCodesLaw
namespace Go.Proofs.Ytnokgeobaaahiaa
open Go.RowKit

set_option maxRecDepth 100000 in
set_option maxHeartbeats 800000 in
theorem back_yy (w : World) (A : Option Addr) (n c : Nat) (l : List Nat) (Hn : Hid (l.length = n)) (H1 : Hid (Rd w A c (us l))) (hn : n ≤ 1048576) (Hl : Hid (U.Cps l)) (hl4 : (U.encs l).length ≤ 4 * n)
    (B : Option Addr) (m d : Nat) (cs : List Nat) (Hcs : Hid (U.Cps cs)) (hcl : cs.length ≤ m) (Hm : Hid ((U.encs cs).length = m)) (H2 : Hid (Rd w B d (bs (U.encs cs)))) (hm : m ≤ 1048576) :
    Calls Try.prog 7 #[.slice A n c, .slice B m d] w fun e w' => e = .returned (.bool true) ∧ Up w w' := by
  go_enter Try.func7, Try.ntmps7
  go_wp2_with fail
  refine (bytes_code _ _ n l _ H1.out Hn.out.symm (by omega)).mono ?_
  rintro e w1 hp
  obtain ⟨hu1, B1, d1, rfl, hr1⟩ := hp.yes Hl.out
  have HR1 := Lib.hid hr1
  clear hp hr1
  go_wp2_with fail
  refine (codes_code _ _ (U.encs l).length (U.encs l) _ HR1.out rfl (by omega)).mono ?_
  rintro e w2 hp
  obtain ⟨hu2, B2, d2, rfl, hr2⟩ := hp.yes Hl.out
  have HR2 := Lib.hid hr2
  clear hp hr2
  have Hn2 := Lib.hid (show n = l.length from Hn.out.symm)
  rw [Hn.out]
  go_wp2_with fail
  refine (same_ref _ _ _ _ _ l _ (H1.out.up (hu1.trans hu2)) HR2.out Hn2.out).mono ?_
  rintro e w3 ⟨rfl, hu3⟩
  go_wp2_with fail
  refine (fault_code _ _ _ (U.encs l) _ (HR1.out.up (hu2.trans hu3)) rfl).mono ?_
  rintro e w4 ⟨rfl, hu4⟩
  rw [U.fault_encs Hl.out]
  have hu : Up w w4 := ((hu1.trans hu2).trans hu3).trans hu4
  go_wp2_with fail
  refine (codes_code _ _ m (U.encs cs) _ (H2.out.up hu) Hm.out.symm (by omega)).mono ?_
  rintro e w5 hp
  obtain ⟨hu5, B5, d5, rfl, hr5⟩ := hp.yes Hcs.out
  have HR5 := Lib.hid hr5
  clear hp hr5
  go_wp2_with fail
  refine (bytes_code _ _ cs.length cs _ HR5.out rfl (by omega)).mono ?_
  rintro e w6 hp
  obtain ⟨hu6, B6, d6, rfl, hr6⟩ := hp.yes Hcs.out
  have s1 := hr6.str (n := (U.encs cs).length) rfl
  have s2 := (H2.out.up ((hu.trans hu5).trans hu6)).str (n := m) Hm.out.symm
  clear hp hr6
  go_wp2_with fail
  refine (awake_1 _).mono ?_
  rintro e w7 ⟨rfl, hu7⟩
  go_wp2_with fail
  go_ret
  exact ⟨rfl, ((hu.trans hu5).trans hu6).trans hu7⟩

set_option maxRecDepth 100000 in
set_option maxHeartbeats 800000 in
theorem back_yn (w : World) (A : Option Addr) (n c : Nat) (l : List Nat) (Hn : Hid (l.length = n)) (H1 : Hid (Rd w A c (us l))) (hn : n ≤ 1048576) (Hl : Hid (U.Cps l)) (hl4 : (U.encs l).length ≤ 4 * n)
    (B : Option Addr) (m d : Nat) (k : List UInt8) (Hft : Hid (0 ≤ U.fault k)) (Hm : Hid (k.length = m)) (H2 : Hid (Rd w B d (bs k))) (hm : m ≤ 1048576) :
    Calls Try.prog 7 #[.slice A n c, .slice B m d] w fun e w' => e = .returned (.bool true) ∧ Up w w' := by
  go_enter Try.func7, Try.ntmps7
  go_wp2_with fail
  refine (bytes_code _ _ n l _ H1.out Hn.out.symm (by omega)).mono ?_
  rintro e w1 hp
  obtain ⟨hu1, B1, d1, rfl, hr1⟩ := hp.yes Hl.out
  have HR1 := Lib.hid hr1
  clear hp hr1
  go_wp2_with fail
  refine (codes_code _ _ (U.encs l).length (U.encs l) _ HR1.out rfl (by omega)).mono ?_
  rintro e w2 hp
  obtain ⟨hu2, B2, d2, rfl, hr2⟩ := hp.yes Hl.out
  have HR2 := Lib.hid hr2
  clear hp hr2
  have Hn2 := Lib.hid (show n = l.length from Hn.out.symm)
  rw [Hn.out]
  go_wp2_with fail
  refine (same_ref _ _ _ _ _ l _ (H1.out.up (hu1.trans hu2)) HR2.out Hn2.out).mono ?_
  rintro e w3 ⟨rfl, hu3⟩
  go_wp2_with fail
  refine (fault_code _ _ _ (U.encs l) _ (HR1.out.up (hu2.trans hu3)) rfl).mono ?_
  rintro e w4 ⟨rfl, hu4⟩
  rw [U.fault_encs Hl.out]
  have hu : Up w w4 := ((hu1.trans hu2).trans hu3).trans hu4
  go_wp2_with fail
  refine (codes_code _ _ m k _ (H2.out.up hu) Hm.out.symm (by omega)).mono ?_
  rintro e w5 hp
  obtain ⟨hu5, rfl⟩ := hp.no Hft.out
  clear hp
  go_wp2_with fail
  refine (bytes_code none 0 0 [] _ (Rd.zero _ _) rfl (by omega)).mono ?_
  rintro e w6 hp
  obtain ⟨hu6, B6, d6, rfl, hr6⟩ := hp.yes (fun _ hh => by cases hh)
  clear hp hr6
  go_wp2_with fail
  refine (fault_code _ _ m k _ (H2.out.up ((hu.trans hu5).trans hu6)) Hm.out.symm).mono ?_
  rintro e w7 ⟨rfl, hu7⟩
  have hft := Hft.out
  go_wp2_with fail
  refine (awake_1 _).mono ?_
  rintro e w8 ⟨rfl, hu8⟩
  go_wp2_with fail
  go_ret
  exact ⟨rfl, (((hu.trans hu5).trans hu6).trans hu7).trans hu8⟩

set_option maxRecDepth 100000 in
set_option maxHeartbeats 800000 in
theorem back_ny (w : World) (A : Option Addr) (n c : Nat) (l : List Nat) (Hn : Hid (l.length = n)) (H1 : Hid (Rd w A c (us l))) (hn : n ≤ 1048576) (Hl : Hid (¬ U.Cps l))
    (B : Option Addr) (m d : Nat) (cs : List Nat) (Hcs : Hid (U.Cps cs)) (hcl : cs.length ≤ m) (Hm : Hid ((U.encs cs).length = m)) (H2 : Hid (Rd w B d (bs (U.encs cs)))) (hm : m ≤ 1048576) :
    Calls Try.prog 7 #[.slice A n c, .slice B m d] w fun e w' => e = .returned (.bool true) ∧ Up w w' := by
  go_enter Try.func7, Try.ntmps7
  go_wp2_with fail
  refine (bytes_code _ _ n l _ H1.out Hn.out.symm (by omega)).mono ?_
  rintro e w1 hp
  obtain ⟨hu1, rfl⟩ := hp.no Hl.out
  clear hp
  go_wp2_with fail
  refine (codes_code none 0 0 (U.encs []) _ (Rd.zero _ _) rfl (by omega)).mono ?_
  rintro e w4 hp
  obtain ⟨hu2, B2, d2, rfl, hr2⟩ := hp.yes (cs := []) (fun _ hh => by cases hh)
  clear hp hr2
  have hu : Up w w4 := hu1.trans hu2
  go_wp2_with fail
  refine (codes_code _ _ m (U.encs cs) _ (H2.out.up hu) Hm.out.symm (by omega)).mono ?_
  rintro e w5 hp
  obtain ⟨hu5, B5, d5, rfl, hr5⟩ := hp.yes Hcs.out
  have HR5 := Lib.hid hr5
  clear hp hr5
  go_wp2_with fail
  refine (bytes_code _ _ cs.length cs _ HR5.out rfl (by omega)).mono ?_
  rintro e w6 hp
  obtain ⟨hu6, B6, d6, rfl, hr6⟩ := hp.yes Hcs.out
  have s1 := hr6.str (n := (U.encs cs).length) rfl
  have s2 := (H2.out.up ((hu.trans hu5).trans hu6)).str (n := m) Hm.out.symm
  clear hp hr6
  go_wp2_with fail
  refine (awake_1 _).mono ?_
  rintro e w7 ⟨rfl, hu7⟩
  go_wp2_with fail
  go_ret
  exact ⟨rfl, ((hu.trans hu5).trans hu6).trans hu7⟩

set_option maxRecDepth 100000 in
set_option maxHeartbeats 800000 in
theorem back_nn (w : World) (A : Option Addr) (n c : Nat) (l : List Nat) (Hn : Hid (l.length = n)) (H1 : Hid (Rd w A c (us l))) (hn : n ≤ 1048576) (Hl : Hid (¬ U.Cps l))
    (B : Option Addr) (m d : Nat) (k : List UInt8) (Hft : Hid (0 ≤ U.fault k)) (Hm : Hid (k.length = m)) (H2 : Hid (Rd w B d (bs k))) (hm : m ≤ 1048576) :
    Calls Try.prog 7 #[.slice A n c, .slice B m d] w fun e w' => e = .returned (.bool true) ∧ Up w w' := by
  go_enter Try.func7, Try.ntmps7
  go_wp2_with fail
  refine (bytes_code _ _ n l _ H1.out Hn.out.symm (by omega)).mono ?_
  rintro e w1 hp
  obtain ⟨hu1, rfl⟩ := hp.no Hl.out
  clear hp
  go_wp2_with fail
  refine (codes_code none 0 0 (U.encs []) _ (Rd.zero _ _) rfl (by omega)).mono ?_
  rintro e w4 hp
  obtain ⟨hu2, B2, d2, rfl, hr2⟩ := hp.yes (cs := []) (fun _ hh => by cases hh)
  clear hp hr2
  have hu : Up w w4 := hu1.trans hu2
  go_wp2_with fail
  refine (codes_code _ _ m k _ (H2.out.up hu) Hm.out.symm (by omega)).mono ?_
  rintro e w5 hp
  obtain ⟨hu5, rfl⟩ := hp.no Hft.out
  clear hp
  go_wp2_with fail
  refine (bytes_code none 0 0 [] _ (Rd.zero _ _) rfl (by omega)).mono ?_
  rintro e w6 hp
  obtain ⟨hu6, B6, d6, rfl, hr6⟩ := hp.yes (fun _ hh => by cases hh)
  clear hp hr6
  go_wp2_with fail
  refine (fault_code _ _ m k _ (H2.out.up ((hu.trans hu5).trans hu6)) Hm.out.symm).mono ?_
  rintro e w7 ⟨rfl, hu7⟩
  have hft := Hft.out
  go_wp2_with fail
  refine (awake_1 _).mono ?_
  rintro e w8 ⟨rfl, hu8⟩
  go_wp2_with fail
  go_ret
  exact ⟨rfl, (((hu.trans hu5).trans hu6).trans hu7).trans hu8⟩

theorem back_walk (w : World) (A : Option Addr) (n c : Nat) (l : List Nat) (hn : l.length = n) (h : Rd w A c (us l)) (_hw : ∀ c ∈ l, c < 4294967296) (_hb : c * 4 ≤ 140737488351232) (hu : c ≤ 1048576)
    (B : Option Addr) (m d : Nat) (k : List UInt8) (hm : k.length = m) (hk : Rd w B d (bs k)) (_hb2 : d * 1 ≤ 140737488351232) (hu2 : d ≤ 1048576) :
    Calls Try.prog 7 #[.slice A n c, .slice B m d] w fun e w' => e = .returned (.bool true) ∧ Up w w' := by
  have hf := h.fit
  rw [us_len] at hf
  have hf2 := hk.fit
  rw [bs_len] at hf2
  by_cases hl : U.Cps l
  · have h4 := U.encs_len_4 l hl
    by_cases hft : U.fault k < 0
    · obtain ⟨cs, hcs, rfl⟩ := U.right_of hft
      exact back_yy w A n c l hn h (by omega) hl (by omega) B m d cs hcs (by have := U.encs_len_le cs hcs; omega) hm hk (by omega)
    · exact back_yn w A n c l hn h (by omega) hl (by omega) B m d k (show 0 ≤ U.fault k by omega) hm hk (by omega)
  · by_cases hft : U.fault k < 0
    · obtain ⟨cs, hcs, rfl⟩ := U.right_of hft
      exact back_ny w A n c l hn h (by omega) hl B m d cs hcs (by have := U.encs_len_le cs hcs; omega) hm hk (by omega)
    · exact back_nn w A n c l hn h (by omega) hl B m d k (show 0 ≤ U.fault k by omega) hm hk (by omega)

end Go.Proofs.Ytnokgeobaaahiaa
