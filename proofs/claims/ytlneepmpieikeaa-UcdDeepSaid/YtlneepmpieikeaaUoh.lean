/- The program's Composes, Second, Quickly, Starts; all seven. -/
import Derived.Test.YtlneepmpieikeaaUog
namespace Go.Proofs.Ytlneepmpieikeaa
open Go.RowKit

theorem row_last (r : Nat) (hr : r < 2061) : ∃ y : UInt8, decS.data.toList[r * 16 + 15]? = some y ∧ ∀ w, (Instr.index 9 (.string (rowS decS 16 r)) (.int .i64 15)).run Try.prog w = .ok (.int .u8 (y.toNat : Int)) w := by
  have hs : (rowS decS 16 r).size = 16 := rowS_size decS 16 r (by rw [dec_sz]; omega)
  have hl : (rowS decS 16 r).data.toList.length = 16 := by rw [← size_of, hs]
  have e : decS.data.toList[r * 16 + 15]? = some (rowS decS 16 r)[15] := by
    have h1 : (rowS decS 16 r).data.toList[15]? = decS.data.toList[r * 16 + 15]? := by
      rw [rowS_list, List.getElem?_take_of_lt (by decide), List.getElem?_drop]
    rw [← h1, List.getElem?_eq_getElem (by rw [hl]; decide)]
    rfl
  refine ⟨_, e, fun w => ?_⟩
  rw [run_index_string w 9 (rowS decS 16 r) .i64 15 Try.underlying9, dif_pos ⟨by decide, by rw [hs]; decide⟩]
  rfl

theorem is_c (y : UInt8) : decide (some y = some 99) = ((y.toNat : Int) == 99) := by
  rw [Bool.eq_iff_iff]
  simp only [decide_eq_true_eq, Option.some.injEq, beq_iff_eq]
  constructor
  · rintro rfl; rfl
  · intro h; exact UInt8.toNat_inj.1 (by show y.toNat = 99; omega)

set_option maxRecDepth 100000 in
theorem composes_prog (c : Nat) (w : World) : Calls Try.prog 15 #[.int .u32 (c : Int)] w fun e w' => e = .returned (.bool (cmpOf c)) ∧ Up w w' := by
  have HF := Lib.hid (dec_prog c w)
  have HR := Lib.hid (fun r (h : rowOf c = r + 1) => (row_dec h).2.2)
  have HN : Hid (rowOf c = 0 → cmpOf c = false) := Lib.hid (fun h => by unfold cmpOf; rw [h]; rfl)
  have HL := Lib.hid row_last
  unfold decL at HR
  generalize cmpOf c = x at *
  generalize rowOf c = v at *
  generalize decS = S at *
  go_enter Try.func15, Try.ntmps15
  go_wp2_with fail
  refine HF.out.mono ?_
  rintro e w1 ⟨⟨r, hr, rfl, hv⟩ | ⟨rfl, hv⟩, hu⟩
  · obtain ⟨y, h1, h2⟩ := HL.out r hr
    have h3 := HR.out r hv
    rw [h1, is_c] at h3
    subst hv
    have H3 := Lib.hid h3
    clear HR HF HN HL h1 h3
    generalize rowS S 16 r = Q at *
    go_wp2
    go_ret
    exact ⟨ret_val (show Value.bool _ = _ by rw [H3.out]), hu⟩
  · have hx := HN.out hv
    subst hx hv
    clear HR HF HN HL
    go_wp2_with fail
    go_ret
    exact ⟨rfl, hu⟩

theorem sec_cut (k : Nat) (hk : k < 941) : ∃ S : ByteArray, (∀ w, (Instr.slice 9 (.string parS) (some (.int .i64 ((k : Int) * 15 + 5))) (some (.int .i64 ((k : Int) * 15 + 5 + 5))) none).run Try.prog w = .ok (.string S) w) ∧
    ∀ (c : Nat) w, Calls Try.prog 36 #[.string S, .int .u32 (c : Int)] w fun e w' => e = .returned (.bool (decide (fld parS.data.toList 15 k 5 5 = c))) ∧ w = w' := by
  obtain ⟨S, h1, h2, h3⟩ := cut_str parS ((k : Int) * 15 + 5) ((k : Int) * 15 + 5 + 5) (by omega) (by omega) (by rw [par_sz2]; omega)
  have e1 : ((k : Int) * 15 + 5).toNat = k * 15 + 5 := by omega
  have e2 : ((k : Int) * 15 + 5 + 5).toNat = k * 15 + 5 + 5 := by omega
  rw [e1, e2, Nat.add_sub_cancel_left] at h1
  rw [e1, e2, Nat.add_sub_cancel_left] at h2
  refine ⟨S, h3, fun c w => ?_⟩
  have hn := spells_prog S (by omega) (Lib.hid (by rw [h1]; exact hexes_fld par_hex hk (by decide))) c w
  rw [h1] at hn
  exact hn

set_option maxRecDepth 100000 in
set_option maxHeartbeats 2000000 in
theorem second_prog (c : Nat) (w : World) : Calls Try.prog 19 #[.int .u32 (c : Int)] w fun e w' => e = .returned (.bool (secOf c)) ∧ Up w w' := by
  have hiff := isSec_iff c
  have hrg := isSec_range c
  unfold secOf
  obtain ⟨s, hs⟩ : ∃ s, isSec c = s := ⟨_, rfl⟩
  rw [hs] at hiff hrg ⊢
  clear hs
  unfold hanV
  unfold parL at hiff
  have Hiff := Lib.hid hiff
  have Hrg := Lib.hid hrg
  have N1 := Lib.hid sec_cut
  clear hiff hrg
  by_cases h1 : 4449 ≤ c ∧ c ≤ 4469
  · obtain ⟨h1, h2⟩ := h1
    clear N1 Hrg Hiff
    go_enter Try.func19, Try.ntmps19
    conv in (occs := *) (Value.string _) => all_goals change Value.string parS
    generalize parS = S at *
    go_wp2
    go_ret
    exact ⟨by simp [h1, h2], Up.refl _⟩
  · have hA : (decide (4449 ≤ c) && decide (c ≤ 4469)) = false := by rw [Bool.and_eq_false_iff]; simp only [decide_eq_false_iff_not]; omega
    rw [hA]
    clear hA
    by_cases h2 : 4520 ≤ c ∧ c ≤ 4546
    · obtain ⟨h2, h3⟩ := h2
      have h4 : 4469 < c := by omega
      have h5 : 4449 ≤ c := by omega
      clear N1 Hrg Hiff h1
      go_enter Try.func19, Try.ntmps19
      conv in (occs := *) (Value.string _) => all_goals change Value.string parS
      generalize parS = S at *
      go_wp2
      go_ret
      exact ⟨by simp [h2, h3], Up.refl _⟩
    · have hB : (decide (4520 ≤ c) && decide (c ≤ 4546)) = false := by rw [Bool.and_eq_false_iff]; simp only [decide_eq_false_iff_not]; omega
      rw [hB]
      clear hB
      have e : (false || false || s) = s := rfl
      rw [e]
      clear e
      by_cases h3 : c < 768
      · cases s with
        | true => have := Hrg.out rfl; omega
        | false =>
          have h4 : c < 4449 := by omega
          have h5 : c < 4520 := by omega
          clear N1 Hrg Hiff h1 h2
          go_enter Try.func19, Try.ntmps19
          conv in (occs := *) (Value.string _) => all_goals change Value.string parS
          generalize parS = S at *
          go_wp2
          go_ret
          exact ⟨rfl, Up.refl _⟩
      · clear Hrg
        have hlo : c < 4449 ∨ (4449 ≤ c ∧ 4469 < c ∧ c < 4520) ∨ (4449 ≤ c ∧ 4469 < c ∧ 4520 ≤ c ∧ 4546 < c) := by omega
        clear h1 h2
        have h3' : 768 ≤ c := by omega
        clear h3
        have hlo' : (c < 4449 ∧ c < 4520) ∨ (4449 ≤ c ∧ 4469 < c ∧ c < 4520) ∨ (4449 ≤ c ∧ 4469 < c ∧ 4520 ≤ c ∧ 4546 < c) := by omega
        clear hlo
        rcases hlo' with ⟨g1, g2⟩ | ⟨g1, g2, g3⟩ | ⟨g1, g2, g3, g4⟩
        all_goals
          go_enter Try.func19, Try.ntmps19
          conv in (occs := *) (Value.string _) => all_goals change Value.string parS
          generalize parS = S at *
          go_wp2
          go_loop [21] (fun i => ∃ k : Nat, k ≤ 941 ∧ i = .int .i64 (k : Int) ∧ Hid (∀ j, j < k → fld S.data.toList 15 j 5 5 ≠ c)) (fun i => 941 - (intOf i).toNat)
          case atStart => exact ⟨0, by omega, rfl, Lib.hid (fun j h => by omega)⟩
          case round =>
            obtain ⟨k, hk, rfl, hno⟩ := hrel
            by_cases hlt : k < 941
            · obtain ⟨R, m1, m2⟩ := N1.out k hlt
              have m3 := m2 c w
              obtain ⟨x, hx⟩ : ∃ x, fld S.data.toList 15 k 5 5 = x := ⟨_, rfl⟩
              rw [hx] at m3
              have HX := Lib.hid hx
              clear hx m2
              by_cases hxc : x = c
              · have hs : s = true := Hiff.out.2 ⟨k, hlt, HX.out.trans hxc⟩
                subst hs
                rw [decide_eq_true hxc] at m3
                clear hxc
                go_wp2_with fail
                refine m3.mono ?_
                rintro e w1 ⟨rfl, rfl⟩
                go_wp2_with fail
                go_ret
                exact ⟨rfl, Up.refl _⟩
              · rw [decide_eq_false hxc] at m3
                have HXC := Lib.hid hxc
                clear hxc
                go_wp2_with fail
                refine m3.mono ?_
                rintro e w1 ⟨rfl, rfl⟩
                go_wp2_with fail
                go_round
                case rel => exact ⟨k + 1, by omega, by go_num, Lib.hid (fun j hj => by
                  by_cases e : j = k
                  · subst e; rw [HX.out]; exact HXC.out
                  · exact hno.out j (by omega))⟩
                case measure => simp [intOf]; omega
            · obtain rfl : k = 941 := by omega
              have hs : s = false := by
                cases s with
                | false => rfl
                | true => obtain ⟨i, hi, he⟩ := Hiff.out.1 rfl; exact absurd he (hno.out i hi)
              subst hs
              go_wp2_with fail
              go_ret
              exact ⟨rfl, Up.refl _⟩

set_option maxRecDepth 100000 in
theorem quickly_prog (c : Nat) (w : World) : Calls Try.prog 21 #[.int .u32 (c : Int)] w fun e w' => e = .returned (.int .u8 (quickOf c : Int)) ∧ Up w w' := by
  have HF := Lib.hid (dec_prog c w)
  have HS := Lib.hid (fun w => second_prog c w)
  have HR := Lib.hid (fun r (h : rowOf c = r + 1) => (row_dec h).2.2)
  have HQ : quickOf c = if rowOf c ≠ 0 ∧ cmpOf c = false then 1 else if secOf c = true then 2 else 0 := rfl
  have HL := Lib.hid row_last
  rw [HQ]
  clear HQ
  unfold decL at HR
  generalize secOf c = s at *
  generalize cmpOf c = x at *
  generalize rowOf c = v at *
  generalize decS = S at *
  obtain ⟨q, hq⟩ : ∃ q, (if v ≠ 0 ∧ x = false then 1 else if s = true then 2 else 0) = q := ⟨_, rfl⟩
  rw [hq]
  have HQ := Lib.hid hq
  clear hq
  go_enter Try.func21, Try.ntmps21
  go_wp2_with fail
  refine HF.out.mono ?_
  rintro e w1 ⟨⟨r, hr, rfl, hv⟩ | ⟨rfl, hv⟩, hu⟩
  · obtain ⟨y, h1, h2⟩ := HL.out r hr
    have h3 := HR.out r hv
    rw [h1, is_c] at h3
    subst hv
    clear HR HF HL h1
    generalize rowS S 16 r = Q at *
    cases x with
    | false =>
      have h4 : ((y.toNat : Int) != 99) = true := by rw [bne, ← h3]; rfl
      have hq : q = 1 := by rw [← HQ.out, if_pos ⟨Nat.succ_ne_zero r, rfl⟩]
      subst hq
      clear h3 HQ
      go_wp2_with fail
      go_ret
      exact ⟨rfl, hu⟩
    | true =>
      have h4 : ((y.toNat : Int) != 99) = false := by rw [bne, ← h3]; rfl
      have hq : q = if s = true then 2 else 0 := by rw [← HQ.out, if_neg (fun h => Bool.noConfusion h.2)]
      clear h3 HQ
      cases s with
      | true =>
        obtain rfl : q = 2 := hq
        go_wp2_with fail
        refine (HS.out _).mono ?_
        rintro e w2 ⟨rfl, hu2⟩
        go_wp2_with fail
        go_ret
        exact ⟨rfl, hu.trans hu2⟩
      | false =>
        obtain rfl : q = 0 := hq
        go_wp2_with fail
        refine (HS.out _).mono ?_
        rintro e w2 ⟨rfl, hu2⟩
        go_wp2_with fail
        go_ret
        exact ⟨rfl, hu.trans hu2⟩
  · have hq : q = if s = true then 2 else 0 := by rw [← HQ.out, if_neg (fun h => h.1 hv)]
    subst hv
    clear HR HF HL HQ
    cases s with
    | true =>
      obtain rfl : q = 2 := hq
      go_wp2_with fail
      refine (HS.out _).mono ?_
      rintro e w2 ⟨rfl, hu2⟩
      go_wp2_with fail
      go_ret
      exact ⟨rfl, hu.trans hu2⟩
    | false =>
      obtain rfl : q = 0 := hq
      go_wp2_with fail
      refine (HS.out _).mono ?_
      rintro e w2 ⟨rfl, hu2⟩
      go_wp2_with fail
      go_ret
      exact ⟨rfl, hu.trans hu2⟩

set_option maxRecDepth 100000 in
theorem starts_prog (c : Nat) (w : World) : Calls Try.prog 23 #[.int .u32 (c : Int)] w fun e w' => e = .returned (.bool (startOf c)) ∧ Up w w' := by
  have hcl := fun w => class_prog c w
  have hqu := fun w => quickly_prog c w
  unfold startOf
  generalize clsOf c = x at *
  generalize quickOf c = q at *
  by_cases hx : x = 0
  · subst hx
    by_cases hq : q = 0
    · subst hq
      go_enter Try.func23, Try.ntmps23
      go_wp2_with fail
      refine (hcl _).mono ?_
      rintro e w1 ⟨rfl, hu⟩
      go_wp2_with fail
      refine (hqu _).mono ?_
      rintro e w2 ⟨rfl, hu2⟩
      go_wp2_with fail
      go_ret
      exact ⟨rfl, hu.trans hu2⟩
    · have hne : ((q : Int) == 0) = false := by simp; omega
      go_enter Try.func23, Try.ntmps23
      go_wp2_with fail
      refine (hcl _).mono ?_
      rintro e w1 ⟨rfl, hu⟩
      go_wp2_with fail
      refine (hqu _).mono ?_
      rintro e w2 ⟨rfl, hu2⟩
      go_wp2_with fail
      go_ret
      exact ⟨ret_val (by simp [hq]), hu.trans hu2⟩
  · have hne : ((x : Int) == 0) = false := by simp; omega
    go_enter Try.func23, Try.ntmps23
    go_wp2_with fail
    refine (hcl _).mono ?_
    rintro e w1 ⟨rfl, hu⟩
    go_wp2_with fail
    go_ret
    exact ⟨ret_val (by simp [hx]), hu⟩

theorem ucd_ok : UcdOk := ⟨class_prog, decomp_prog, composes_prog, pair_prog, second_prog, quickly_prog, starts_prog⟩

end Go.Proofs.Ytlneepmpieikeaa
