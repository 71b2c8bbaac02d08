/- The document's Class, row, Decomp, Composes. -/
import Derived.Test.YthdhlcafomhdbaaDoorTab
namespace Go.Proofs.YthdhlcafomhdbaaDoor
open Go.RowKit

theorem size_of (s : ByteArray) : s.size = s.data.toList.length := by rw [Array.length_toList]; rfl
theorem dec_sz : decS.size = 32976 := by rw [size_of]; exact dec_size

theorem num_at (S : ByteArray) (size : Nat) (k o n : Nat) (hn : n ≤ 5) (hp : k * size + o ≤ 1000000) (w : World) (p : Int) (hpi : p = ((k * size + o : Nat) : Int)) (m : Int) (hm : m = (n : Int)) :
    Calls Tryd.prog 33 #[.string S, .int .i64 p, .int .i64 m] w fun e w' => e = .returned (.int .u32 (fld S.data.toList size k o n : Int)) ∧ w = w' := by
  subst hpi hm
  exact number_ref3 S (k * size + o) n hn hp w

/-- What row answers. -/
noncomputable def rowI (c : Nat) : Int := if rowOf c = 0 then -1 else 16 * ((rowOf c - 1 : Nat) : Int)

theorem fld_le (l : List UInt8) (size i o n : Nat) (hn : n ≤ 5) : fld l size i o n ≤ 17825775 := by
  unfold fld
  have h := num_le ((l.drop (i * size + o)).take n)
  have h2 : ((l.drop (i * size + o)).take n).length ≤ 5 := by rw [List.length_take]; omega
  have h3 : 16 ^ ((l.drop (i * size + o)).take n).length ≤ 16 ^ 5 := Nat.pow_le_pow_right (by decide) h2
  omega

set_option maxRecDepth 100000 in
theorem row_ref (c : Nat) (w : World) : Calls Tryd.prog 32 #[.int .u32 (c : Int)] w fun e w' => e = .returned (.int .i64 (rowI c)) ∧ Up w w' := by
  have hla := last_16 decS 2061 (Lib.hid (by rw [dec_sz])) (by rw [dec_sz]; decide) c (Lib.hid (key_le dec_rising)) w
  have hrk := rank_last dec_rising c
  obtain ⟨rk, hk⟩ : ∃ rk, rank decL 16 c 2061 = rk := ⟨_, rfl⟩
  have hv : rowOf c = if rk = 0 ∨ key decL 16 (rk - 1) ≠ c then 0 else rk := by unfold rowOf; rw [hk]
  unfold decL at hk hv
  rw [hk] at hrk
  have hr := hrk.1
  have n1 := fun (k : Nat) (hk : k ≤ 2061) (w' : World) => num_at decS 16 k 0 5 (by omega) (by omega) w' (16 * (k : Int)) (by omega) 5 rfl
  have HLA := Lib.hid hla
  have HRK := Lib.hid hrk
  have N1 := Lib.hid n1
  clear hla hrk n1 hk
  unfold rowI
  cases rk with
  | zero =>
    rw [if_pos (.inl rfl)] at hv
    rw [hv, if_pos rfl]
    clear hv
    go_enter Tryd.func32, Tryd.ntmps32
    conv in (occs := *) (Value.string _) => all_goals change Value.string decS
    generalize decS = S at *
    go_wp2_with fail
    refine HLA.out.mono ?_
    rintro e w1 ⟨r, rfl, hL, hu⟩
    obtain rfl := last_uniq hL HRK.out
    rw [show ((0 : Nat) : Int) - 1 = -1 from rfl]
    go_wp2_with fail
    go_ret
    exact ⟨rfl, hu⟩
  | succ k =>
    have m1 := fun (w' : World) => N1.out k (by omega) w'
    have hky : key decS.data.toList 16 k = fld decS.data.toList 16 k 0 5 := key_fld _ _ _
    rw [Nat.add_sub_cancel, hky] at hv
    have hle := fld_le decS.data.toList 16 k 0 5 (by omega)
    obtain ⟨x, hx⟩ : ∃ x, fld decS.data.toList 16 k 0 5 = x := ⟨_, rfl⟩
    rw [hx] at hv hle
    simp only [hx] at m1
    clear hx hky N1
    by_cases hxc : x = c
    · subst hxc
      rw [if_neg (by omega)] at hv
      rw [hv, if_neg (Nat.succ_ne_zero k), Nat.add_sub_cancel]
      clear hv
      go_enter Tryd.func32, Tryd.ntmps32
      conv in (occs := *) (Value.string _) => all_goals change Value.string decS
      generalize decS = S at *
      go_wp2_with fail
      refine HLA.out.mono ?_
      rintro e w1 ⟨r, rfl, hL, hu⟩
      obtain rfl := last_uniq hL HRK.out
      rw [show ((k + 1 : Nat) : Int) - 1 = (k : Int) by omega]
      go_wp2_with fail
      refine (m1 _).mono ?_
      rintro e w2 ⟨rfl, rfl⟩
      go_wp2_with fail
      go_ret
      exact ⟨rfl, hu⟩
    · rw [if_pos (.inr hxc)] at hv
      rw [hv, if_pos rfl]
      clear hv
      have hne : ((x : Int) != (c : Int)) = true := by simp; omega
      go_enter Tryd.func32, Tryd.ntmps32
      conv in (occs := *) (Value.string _) => all_goals change Value.string decS
      generalize decS = S at *
      go_wp2_with fail
      refine HLA.out.mono ?_
      rintro e w1 ⟨r, rfl, hL, hu⟩
      obtain rfl := last_uniq hL HRK.out
      rw [show ((k + 1 : Nat) : Int) - 1 = (k : Int) by omega]
      go_wp2_with fail
      refine (m1 _).mono ?_
      rintro e w2 ⟨rfl, rfl⟩
      go_wp2_with fail
      go_ret
      exact ⟨rfl, hu⟩

end Go.Proofs.YthdhlcafomhdbaaDoor
