/- The statement CodeWidths: the walk. -/
import Derived.Test.YtnokgeobaaahiaaAwake
import Derived.Test.YtnokgeobaaahiaaUtg
namespace Go.Proofs.Ytnokgeobaaahiaa
open Go.RowKit

theorem widths_no (c d : Int) (hw : widthI c = 0) (w : World) : Calls Try.prog 9 #[.int .u32 c, .int .u32 d] w fun e w' => e = .returned (.bool true) ∧ Up w w' := by
  have hpc := put_no c w hw
  have Hw := Lib.hid hw
  clear hw
  go_enter Try.func9, Try.ntmps9
  go_wp2_with fail
  refine hpc.mono ?_
  rintro e w1 ⟨rfl, rfl⟩
  go_wp2_with (first | (go_at_call 14; refine (width_code _ _).mono ?_; rintro e w' ⟨rfl, rfl⟩; rw [Hw.out]) | (go_at_call 16; refine (awake_1 _).mono ?_; rintro e w4 ⟨rfl, hu4⟩))
  go_ret
  exact ⟨rfl, hu4⟩

theorem widthI_mono (c d : Int) : d < c ∨ widthI d = 0 ∨ widthI c ≤ widthI d := by
  unfold widthI
  repeat' split
  all_goals omega

set_option maxRecDepth 100000 in
set_option maxHeartbeats 400000 in
theorem widths_yes (c : Nat) (hc : U.isCp c) (d : Int) (w : World) : Calls Try.prog 9 #[.int .u32 c, .int .u32 d] w fun e w' => e = .returned (.bool true) ∧ Up w w' := by
  have hpc := put_code c hc w
  have hn := U.enc_len hc
  have hpos := U.wid_pos.2 hc
  have hw4 := U.wid_le c
  have hat : ∀ k, ∀ h : k < (U.enc c).length, _ := fun k h => U.enc_at hc k h
  go_enter Try.func9, Try.ntmps9
  go_wp2_with fail
  refine hpc.mono ?_
  rintro e w1 ⟨A, rfl, hrd, hu1⟩
  obtain ⟨a, rfl, hlt⟩ := hrd.ad hpos
  have HC := Lib.hid (fun k (h : k < (U.enc c).length) => hrd.cell a rfl k _ (bs_get _ k h))
  have HAt := Lib.hid hat
  have Hn := Lib.hid hn
  have HW := Lib.hid (widthI_wid c)
  clear hpc hrd hat hn
  generalize U.wid c = n at *
  go_wp2_with fail
  go_loop [7] (fun i => ∃ k : Nat, 1 ≤ k ∧ k ≤ n ∧ i = .int .i64 k) (fun i => n - (intOf i).toNat)
  case atStart => exact ⟨1, by omega, hpos, rfl⟩
  case round =>
    obtain ⟨k, hk1, hkn, rfl⟩ := hrel
    by_cases hlt : k < n
    · have hk' : k < (U.enc c).length := by rw [Hn.out]; exact hlt
      have hcell := HC.out k hk'
      have hb := (HAt.out k hk').2 hk1
      generalize (U.enc c)[k].toNat = b at *
      go_wp2_with fail
      go_round
      case rel => exact ⟨k + 1, by omega, by omega, by go_num⟩
      case measure => simp [intOf]; omega
    · have hk0 : 0 < (U.enc c).length := by rw [Hn.out]; exact hpos
      have hcell : w1.cell? a = _ := HC.out 0 hk0
      have hb := (HAt.out 0 hk0).1 rfl
      generalize (U.enc c)[0].toNat = b at *
      have hmono : d < c ∨ widthI d = 0 ∨ widthI c ≤ widthI d := by
        have := widthI_mono c d
        omega
      rw [HW.out] at hmono
      by_cases hd0 : widthI d = 0
      · have HD := Lib.hid hd0
        clear hd0 hmono
        rcases hb with hb | hb
        all_goals
          go_wp2_with fail
          refine (width_code _ _).mono ?_
          rintro e w' ⟨rfl, rfl⟩
          rw [HW.out]
          go_wp2_with fail
          refine (width_code _ _).mono ?_
          rintro e w' ⟨rfl, rfl⟩
          rw [HD.out]
          go_wp2_with fail
          refine (awake_1 _).mono ?_
          rintro e w4 ⟨rfl, hu4⟩
          go_wp2_with fail
          go_ret
          exact ⟨ret_bool (by simp <;> omega), hu1.trans hu4⟩
      · have hd1 : (widthI d == 0) = false := beq_eq_false_iff_ne.2 hd0
        by_cases hlt : d < c
        · clear hmono hd0
          rcases hb with hb | hb
          all_goals
            go_wp2_with fail
            refine (width_code _ _).mono ?_
            rintro e w' ⟨rfl, rfl⟩
            rw [HW.out]
            go_wp2_with fail
            refine (width_code _ _).mono ?_
            rintro e w' ⟨rfl, rfl⟩
            go_wp2_with fail
            refine (awake_1 _).mono ?_
            rintro e w4 ⟨rfl, hu4⟩
            go_wp2_with fail
            go_ret
            exact ⟨ret_bool (by simp <;> omega), hu1.trans hu4⟩
        · have hge : (n : Int) ≤ widthI d := by omega
          clear hmono hd0
          rcases hb with hb | hb
          all_goals
            go_wp2_with fail
            refine (width_code _ _).mono ?_
            rintro e w' ⟨rfl, rfl⟩
            rw [HW.out]
            go_wp2_with fail
            refine (width_code _ _).mono ?_
            rintro e w' ⟨rfl, rfl⟩
            go_wp2_with fail
            refine (width_code _ _).mono ?_
            rintro e w' ⟨rfl, rfl⟩
            go_wp2_with fail
            refine (width_code _ _).mono ?_
            rintro e w' ⟨rfl, rfl⟩
            rw [HW.out]
            go_wp2_with fail
            refine (awake_1 _).mono ?_
            rintro e w4 ⟨rfl, hu4⟩
            go_wp2_with fail
            go_ret
            exact ⟨ret_bool (by simp <;> omega), hu1.trans hu4⟩

theorem widths_walk (w : World) (c : Int) (hc : 0 ≤ c ∧ c < 4294967296) (d : Int) (_hd : 0 ≤ d ∧ d < 4294967296) : Calls Try.prog 9 #[.int .u32 c, .int .u32 d] w fun e w' => e = .returned (.bool true) ∧ Up w w' := by
  obtain ⟨c, rfl⟩ := Int.eq_ofNat_of_zero_le hc.1
  by_cases h : U.isCp c
  · exact widths_yes c h d w
  · exact widths_no c d (by rw [widthI_wid, Nat.eq_zero_of_not_pos (fun h' => h (U.wid_pos.1 h'))]; rfl) w

end Go.Proofs.Ytnokgeobaaahiaa
