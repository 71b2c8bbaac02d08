/- The statement CodeCuts: the walk. -/
import Derived.Test.YtnokgeobaaahiaaCodesLaw
import Derived.Test.YtnokgeobaaahiaaJoins
namespace Go.Proofs.Ytnokgeobaaahiaa
open Go.RowKit

theorem cuts_no (w : World) (A : Option Addr) (n c : Nat) (l : List Nat) (Hn : Hid (l.length = n)) (H : Hid (Rd w A c (us l))) (hn4 : n * 4 ≤ 140737488351232) (Hl : Hid (¬ U.Cps l)) (a : Int) :
    Calls Try.prog 10 #[.slice A n c, .int .u16 a] w fun e w' => e = .returned (.bool true) ∧ Up w w' := by
  go_enter Try.func10, Try.ntmps10
  go_wp2_with fail
  refine (bytes_code _ _ n l _ H.out Hn.out.symm hn4).mono ?_
  rintro e w1 hp
  obtain ⟨hu1, rfl⟩ := hp.no Hl.out
  clear hp
  go_wp2_with fail
  refine (awake_1 _).mono ?_
  rintro e w2 ⟨rfl, hu2⟩
  go_wp2_with fail
  go_ret
  exact ⟨rfl, hu1.trans hu2⟩

/-- Is k where a code point ends, among the first i? -/
def Btw (l : List Nat) (k i : Nat) (b : Bool) : Prop := b = true ↔ ∃ j, j ≤ i ∧ (U.encs (l.take j)).length = k

set_option maxRecDepth 100000 in
set_option maxHeartbeats 1600000 in
theorem cuts_yes (w : World) (A : Option Addr) (n c : Nat) (l : List Nat) (Hn : Hid (l.length = n)) (H : Hid (Rd w A c (us l))) (hn4 : n * 4 ≤ 140737488351232) (hnc : n ≤ c) (hcm : c ≤ 9223372036854775807) (Hl : Hid (U.Cps l)) (a : Int) (ha : 0 ≤ a) (ha2 : a < 65536) :
    Calls Try.prog 10 #[.slice A n c, .int .u16 a] w fun e w' => e = .returned (.bool true) ∧ Up w w' := by
  have h4 := U.encs_len_4 l Hl.out
  have hL : (U.encs l).length ≤ 140737488351232 := by have := Hn.out; omega
  clear h4
  obtain ⟨L, HL⟩ : ∃ L, Hid ((U.encs l).length = L) := ⟨_, Lib.hid rfl⟩
  rw [HL.out] at hL
  obtain ⟨k, hk⟩ : ∃ k : Nat, a % ((L : Int) + 1) = (k : Int) := ⟨(a % ((L : Int) + 1)).toNat, by rw [Int.toNat_of_nonneg (Int.emod_nonneg _ (by omega))]⟩
  have hkL : k ≤ L := by have := Int.emod_lt_of_pos a (b := (L : Int) + 1) (by omega); omega
  go_enter Try.func10, Try.ntmps10
  go_wp2_with fail
  refine (bytes_code _ _ n l _ H.out Hn.out.symm hn4).mono ?_
  rintro e w1 hp
  obtain ⟨hu1, B, d, rfl, hr⟩ := hp.yes Hl.out
  have HR := Lib.hid hr
  have hLd : L ≤ d := by have := hr.fit; rw [bs_len, HL.out] at this; exact this
  have hdm := hr.max
  unfold maxLen at hdm
  clear hp hr
  rw [HL.out]
  go_wp2_with fail
  rw [hk]
  have HK := Lib.hid hk
  clear hk
  go_loopw [8, 9, 10] (fun b s i wr => ∃ (m t : Nat) (bb : Bool), m ≤ n ∧ i = .int .i64 m ∧ s = .int .i64 t ∧ Hid (t = (U.encs (l.take m)).length) ∧ t ≤ L ∧ b = .bool bb ∧ Hid (Btw l k m bb) ∧ wr = w1) (fun _ _ i _ => n - (intOf i).toNat)
  case atStart =>
    refine ⟨0, 0, (k : Int) == 0, by omega, rfl, rfl, Lib.hid rfl, by omega, rfl, Lib.hid ?_, rfl⟩
    unfold Btw
    rw [beq_iff_eq]
    constructor
    · intro h; exact ⟨0, Nat.le_refl _, by show 0 = k; omega⟩
    · rintro ⟨j, hj, h⟩
      obtain rfl : j = 0 := by omega
      have h' : 0 = k := h
      omega
  case round =>
    obtain ⟨m, t, bb, hm, rfl, rfl, Ht, htL, rfl, Hb, rfl⟩ := hrel
    by_cases hlt : m < n
    · have hml : m < l.length := by rw [Hn.out]; exact hlt
      obtain ⟨ad, rfl, _⟩ := H.out.ad (by omega)
      have hcell : wr.cell? (ad.add m) = some (.int .u32 (l[m] : Int)) := (H.out.up hu1).cell ad rfl m _ (us_get l m hml)
      have hcp := Hl.out _ (List.getElem_mem hml)
      have S1 := Lib.hid (show (U.encs (l.take (m + 1))).length = t + U.wid l[m] by rw [U.encs_snoc hml, List.length_append, ← Ht.out, U.enc_len hcp])
      have hle : (U.encs (l.take (m + 1))).length ≤ L := by
        have e : U.encs l = U.encs (l.take (m + 1)) ++ U.encs (l.drop (m + 1)) := by rw [← U.encs_append, List.take_append_drop]
        rw [← HL.out, e, List.length_append]
        omega
      rw [S1.out] at hle
      have HW := Lib.hid (widthI_wid l[m])
      have hstep : ∀ b' : Bool, (b' = true ↔ (bb = true ∨ t + U.wid l[m] = k)) → Btw l k (m + 1) b' := fun b' hb' => by
        unfold Btw
        have hb0 : bb = true ↔ _ := Hb.out
        rw [hb', hb0]
        constructor
        · rintro (⟨j, hj, h⟩ | h)
          · exact ⟨j, by omega, h⟩
          · exact ⟨m + 1, Nat.le_refl _, by rw [S1.out]; exact h⟩
        · rintro ⟨j, hj, h⟩
          by_cases hjm : j ≤ m
          · exact .inl ⟨j, hjm, h⟩
          · obtain rfl : j = m + 1 := by omega
            rw [S1.out] at h
            exact .inr h
      have HS := Lib.hid hstep
      clear hstep hcp
      generalize U.wid l[m] = wx at *
      generalize l[m] = x at *
      cases bb with
      | true =>
        go_wp2_with (go_at_call 14; refine (width_code _ _).mono ?_; rintro e w' ⟨rfl, rfl⟩; rw [HW.out])
        go_roundw
        case rel => exact ⟨m + 1, t + wx, _, by omega, by go_num, by go_num, Lib.hid S1.out.symm, hle, rfl, Lib.hid (HS.out true (by simp)), by first | rfl | trivial⟩
        case measure => simp [intOf]; omega
      | false =>
        go_wp2_with (go_at_call 14; refine (width_code _ _).mono ?_; rintro e w' ⟨rfl, rfl⟩; rw [HW.out])
        go_roundw
        case rel => exact ⟨m + 1, t + wx, _, by omega, by go_num, by go_num, Lib.hid S1.out.symm, hle, rfl, Lib.hid (HS.out _ (by simp; omega)), by first | rfl | trivial⟩
        case measure => simp [intOf]; omega
    · have hmn : m = n := by omega
      subst hmn
      have hkd : k ≤ d := by omega
      have hn45 : m ≤ 35184372088808 := by omega
      have hR1 := HR.out.pfx k
      have hR2 := HR.out.sub (lo := k) (hi := L) (m := d) (by omega) (by rw [bs_len, HL.out]; exact Nat.le_refl _) (by omega) (Nat.le_refl _)
      rw [bs_drop, bs_take, List.take_of_length_le (by rw [List.length_drop, HL.out]; exact Nat.le_refl _)] at hR2
      have HR1 := Lib.hid hR1
      clear hR1 hlt
      by_cases hdk : d = k
      · subst hdk
        have hLd2 : L = d := by omega
        subst hLd2
        rw [if_pos rfl, Nat.sub_self] at hR2
        have HR2 := Lib.hid hR2
        clear hR2
        cases bb with
        | true =>
          obtain ⟨j, hj, hjk⟩ := Hb.out.1 rfl
          have hcut := U.cut_at (l := l) (j := j)
          rw [hjk] at hcut
          rw [hcut.1] at HR1
          rw [hcut.2] at HR2
          have hc1 : U.Cps (l.take j) := fun x hx => Hl.out x (List.mem_of_mem_take hx)
          have hc2 : U.Cps (l.drop j) := fun x hx => Hl.out x (List.mem_of_mem_drop hx)
          have hpq : (l.take j).length + (l.drop j).length = m := by rw [← List.length_append, List.take_append_drop]; exact Hn.out
          have hlk : (U.encs (l.drop j)).length = 0 := by rw [← hcut.2, List.length_drop, HL.out, Nat.sub_self]
          have HC := Lib.hid (And.intro hc1 hc2)
          have HPQ := Lib.hid hpq
          have HLK := Lib.hid hlk
          have HJK := Lib.hid hjk
          have HTD := Lib.hid (List.take_append_drop j l)
          clear hj hjk hcut hc1 hc2 hpq hlk
          generalize l.take j = l1 at *
          generalize l.drop j = l2 at *
          go_wp2_with fail
          refine (codes_code_of _ _ L (U.encs l1) _ HR1.out HJK.out.symm (fun cs h1 h2 => by rw [U.encs_inj h1 HC.out.1 h2.symm]; have := HPQ.out; omega)).mono ?_
          rintro e w2 hp
          obtain ⟨hu2, B2, d2, rfl, hr2⟩ := hp.yes HC.out.1
          have HB2 := Lib.hid hr2
          clear hp hr2
          go_wp2_with fail
          refine (codes_code_of _ _ 0 (U.encs l2) _ (HR2.out.up hu2) HLK.out.symm (fun cs h1 h2 => by rw [U.encs_inj h1 HC.out.2 h2.symm]; have := HPQ.out; omega)).mono ?_
          rintro e w3 hp
          obtain ⟨hu3, B3, d3, rfl, hr3⟩ := hp.yes HC.out.2
          have HB3 := Lib.hid hr3
          clear hp hr3
          obtain ⟨A1, e1, w4, A2, e2, w5, hq1, hq2, hrd, hu5⟩ := elU.copy2 (m := l1.length) (n := l2.length) w3 35 (HB2.out.up hu3) (us_len l1).symm (one_us l1) HB3.out (us_len l2).symm (one_us l2) (by rw [HPQ.out]; omega) (by omega)
          rw [← us_append, HTD.out] at hrd
          rw [HPQ.out] at hq2
          have Q1 := Lib.hid hq1
          have Q2 := Lib.hid hq2
          have HRD := Lib.hid hrd
          clear hq1 hq2 hrd
          have tok : True := trivial
          go_wp2_with (first | (at_builtin; have _t := tok; refine wpList_app rfl _ _ _ rfl rfl rfl Q1.out ?_; clear tok) | (at_builtin; refine wpList_app rfl _ _ _ rfl rfl rfl Q2.out ?_))
          refine (same_ref _ _ _ _ m l _ HRD.out (H.out.up (((hu1.trans hu2).trans hu3).trans hu5)) Hn.out.symm).mono ?_
          rintro e w6 ⟨rfl, hu6⟩
          go_wp2_with fail
          refine (awake_1 _).mono ?_
          rintro e w7 ⟨rfl, hu7⟩
          go_wp2_with fail
          go_ret
          exact ⟨rfl, ((((hu1.trans hu2).trans hu3).trans hu5).trans hu6).trans hu7⟩
        | false =>
          have hno : ∀ j, j ≤ l.length → (U.encs (l.take j)).length ≠ L := fun j hj he => by
            have := Hb.out.2 ⟨j, by have := Hn.out; omega, he⟩
            cases this
          have h1 : ¬ U.fault ((U.encs l).take L) < 0 := fun hf => by
            obtain ⟨j, hj, he⟩ := U.cut_of Hl.out (.inl hf) (by rw [HL.out]; exact hkL)
            exact hno j hj he
          have h2 : ¬ U.fault ((U.encs l).drop L) < 0 := fun hf => by
            obtain ⟨j, hj, he⟩ := U.cut_of Hl.out (.inr hf) (by rw [HL.out]; exact hkL)
            exact hno j hj he
          have hf1 : 0 ≤ U.fault ((U.encs l).take L) := by omega
          have hf2 : 0 ≤ U.fault ((U.encs l).drop L) := by omega
          have hl1 : ((U.encs l).take L).length = L := by rw [List.length_take, HL.out, Nat.min_self]
          have hl2 : ((U.encs l).drop L).length = 0 := by rw [List.length_drop, HL.out, Nat.sub_self]
          have HF1 := Lib.hid hf1
          have HF2 := Lib.hid hf2
          have HL1 := Lib.hid hl1
          have HL2 := Lib.hid hl2
          clear hno h1 h2 hf1 hf2 hl1 hl2
          generalize (U.encs l).take L = b1 at *
          generalize (U.encs l).drop L = b2 at *
          go_wp2_with fail
          refine (codes_code_of _ _ L b1 _ HR1.out HL1.out.symm (fun cs h1 h2 => by have := HF1.out; rw [h2, U.fault_encs h1] at this; omega)).mono ?_
          rintro e w2 hp
          obtain ⟨hu2, rfl⟩ := hp.no HF1.out
          clear hp
          go_wp2_with fail
          refine (codes_code_of _ _ 0 b2 _ (HR2.out.up hu2) HL2.out.symm (fun cs h1 h2 => by have := HF2.out; rw [h2, U.fault_encs h1] at this; omega)).mono ?_
          rintro e w3 hp
          obtain ⟨hu3, rfl⟩ := hp.no HF2.out
          clear hp
          go_wp2_with fail
          refine (awake_1 _).mono ?_
          rintro e w7 ⟨rfl, hu7⟩
          go_wp2_with fail
          go_ret
          exact ⟨rfl, ((hu1.trans hu2).trans hu3).trans hu7⟩
      · rw [if_neg hdk] at hR2
        have HR2 := Lib.hid hR2
        clear hR2
        cases bb with
        | true =>
          obtain ⟨j, hj, hjk⟩ := Hb.out.1 rfl
          have hcut := U.cut_at (l := l) (j := j)
          rw [hjk] at hcut
          rw [hcut.1] at HR1
          rw [hcut.2] at HR2
          have hc1 : U.Cps (l.take j) := fun x hx => Hl.out x (List.mem_of_mem_take hx)
          have hc2 : U.Cps (l.drop j) := fun x hx => Hl.out x (List.mem_of_mem_drop hx)
          have hpq : (l.take j).length + (l.drop j).length = m := by rw [← List.length_append, List.take_append_drop]; exact Hn.out
          have hlk : (U.encs (l.drop j)).length = L - k := by rw [← hcut.2, List.length_drop, HL.out]
          have HC := Lib.hid (And.intro hc1 hc2)
          have HPQ := Lib.hid hpq
          have HLK := Lib.hid hlk
          have HJK := Lib.hid hjk
          have HTD := Lib.hid (List.take_append_drop j l)
          clear hj hjk hcut hc1 hc2 hpq hlk
          generalize l.take j = l1 at *
          generalize l.drop j = l2 at *
          go_wp2_with fail
          refine (codes_code_of _ _ k (U.encs l1) _ HR1.out HJK.out.symm (fun cs h1 h2 => by rw [U.encs_inj h1 HC.out.1 h2.symm]; have := HPQ.out; omega)).mono ?_
          rintro e w2 hp
          obtain ⟨hu2, B2, d2, rfl, hr2⟩ := hp.yes HC.out.1
          have HB2 := Lib.hid hr2
          clear hp hr2
          go_wp2_with fail
          refine (codes_code_of _ _ (L - k) (U.encs l2) _ (HR2.out.up hu2) HLK.out.symm (fun cs h1 h2 => by rw [U.encs_inj h1 HC.out.2 h2.symm]; have := HPQ.out; omega)).mono ?_
          rintro e w3 hp
          obtain ⟨hu3, B3, d3, rfl, hr3⟩ := hp.yes HC.out.2
          have HB3 := Lib.hid hr3
          clear hp hr3
          obtain ⟨A1, e1, w4, A2, e2, w5, hq1, hq2, hrd, hu5⟩ := elU.copy2 (m := l1.length) (n := l2.length) w3 35 (HB2.out.up hu3) (us_len l1).symm (one_us l1) HB3.out (us_len l2).symm (one_us l2) (by rw [HPQ.out]; omega) (by omega)
          rw [← us_append, HTD.out] at hrd
          rw [HPQ.out] at hq2
          have Q1 := Lib.hid hq1
          have Q2 := Lib.hid hq2
          have HRD := Lib.hid hrd
          clear hq1 hq2 hrd
          have tok : True := trivial
          go_wp2_with (first | (at_builtin; have _t := tok; refine wpList_app rfl _ _ _ rfl rfl rfl Q1.out ?_; clear tok) | (at_builtin; refine wpList_app rfl _ _ _ rfl rfl rfl Q2.out ?_))
          refine (same_ref _ _ _ _ m l _ HRD.out (H.out.up (((hu1.trans hu2).trans hu3).trans hu5)) Hn.out.symm).mono ?_
          rintro e w6 ⟨rfl, hu6⟩
          go_wp2_with fail
          refine (awake_1 _).mono ?_
          rintro e w7 ⟨rfl, hu7⟩
          go_wp2_with fail
          go_ret
          exact ⟨rfl, ((((hu1.trans hu2).trans hu3).trans hu5).trans hu6).trans hu7⟩
        | false =>
          have hno : ∀ j, j ≤ l.length → (U.encs (l.take j)).length ≠ k := fun j hj he => by
            have := Hb.out.2 ⟨j, by have := Hn.out; omega, he⟩
            cases this
          have h1 : ¬ U.fault ((U.encs l).take k) < 0 := fun hf => by
            obtain ⟨j, hj, he⟩ := U.cut_of Hl.out (.inl hf) (by rw [HL.out]; exact hkL)
            exact hno j hj he
          have h2 : ¬ U.fault ((U.encs l).drop k) < 0 := fun hf => by
            obtain ⟨j, hj, he⟩ := U.cut_of Hl.out (.inr hf) (by rw [HL.out]; exact hkL)
            exact hno j hj he
          have hf1 : 0 ≤ U.fault ((U.encs l).take k) := by omega
          have hf2 : 0 ≤ U.fault ((U.encs l).drop k) := by omega
          have hl1 : ((U.encs l).take k).length = k := by rw [List.length_take, HL.out]; omega
          have hl2 : ((U.encs l).drop k).length = L - k := by rw [List.length_drop, HL.out]
          have HF1 := Lib.hid hf1
          have HF2 := Lib.hid hf2
          have HL1 := Lib.hid hl1
          have HL2 := Lib.hid hl2
          clear hno h1 h2 hf1 hf2 hl1 hl2
          generalize (U.encs l).take k = b1 at *
          generalize (U.encs l).drop k = b2 at *
          go_wp2_with fail
          refine (codes_code_of _ _ k b1 _ HR1.out HL1.out.symm (fun cs h1 h2 => by have := HF1.out; rw [h2, U.fault_encs h1] at this; omega)).mono ?_
          rintro e w2 hp
          obtain ⟨hu2, rfl⟩ := hp.no HF1.out
          clear hp
          go_wp2_with fail
          refine (codes_code_of _ _ (L - k) b2 _ (HR2.out.up hu2) HL2.out.symm (fun cs h1 h2 => by have := HF2.out; rw [h2, U.fault_encs h1] at this; omega)).mono ?_
          rintro e w3 hp
          obtain ⟨hu3, rfl⟩ := hp.no HF2.out
          clear hp
          go_wp2_with fail
          refine (awake_1 _).mono ?_
          rintro e w7 ⟨rfl, hu7⟩
          go_wp2_with fail
          go_ret
          exact ⟨rfl, ((hu1.trans hu2).trans hu3).trans hu7⟩

theorem cuts_walk (w : World) (A : Option Addr) (n c : Nat) (l : List Nat) (hn : l.length = n) (h : Rd w A c (us l)) (_hw : ∀ c ∈ l, c < 4294967296) (hb : c * 4 ≤ 140737488351232) (a : Int) (ha : 0 ≤ a ∧ a < 65536) :
    Calls Try.prog 10 #[.slice A n c, .int .u16 a] w fun e w' => e = .returned (.bool true) ∧ Up w w' := by
  have hf := h.fit
  rw [us_len] at hf
  by_cases hl : U.Cps l
  · exact cuts_yes w A n c l hn h (by omega) (by omega) (by omega) hl a ha.1 ha.2
  · exact cuts_no w A n c l hn h (by omega) hl a

end Go.Proofs.Ytnokgeobaaahiaa
