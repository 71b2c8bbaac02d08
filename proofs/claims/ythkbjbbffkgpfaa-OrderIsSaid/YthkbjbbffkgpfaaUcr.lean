/- The document's Class, row, Decomp, Composes. -/
import Derived.Test.YthkbjbbffkgpfaaTab
namespace Go.Proofs.Ythkbjbbffkgpfaa
open Go.RowKit

theorem size_of (s : ByteArray) : s.size = s.data.toList.length := by rw [Array.length_toList]; rfl
theorem cls_sz : clsS.size = 4656 := by rw [size_of]; exact cls_size
theorem num_at (S : ByteArray) (size : Nat) (k o n : Nat) (hn : n ≤ 5) (hp : k * size + o ≤ 1000000) (w : World) (p : Int) (hpi : p = ((k * size + o : Nat) : Int)) (m : Int) (hm : m = (n : Int)) :
    Calls Try.prog 22 #[.string S, .int .i64 p, .int .i64 m] w fun e w' => e = .returned (.int .u32 (fld S.data.toList size k o n : Int)) ∧ w = w' := by
  subst hpi hm
  exact number_ref3 S (k * size + o) n hn hp w

set_option maxRecDepth 100000 in
theorem class_ref (c : Nat) (w : World) : Calls Try.prog 13 #[.int .u32 (c : Int)] w fun e w' => e = .returned (.int .i64 (clsOf c : Int)) ∧ Up w w' := by
  have hla := last_12 clsS 388 (Lib.hid (by rw [cls_sz])) (by rw [cls_sz]; decide) c (Lib.hid (key_le cls_rising)) w
  have hrk := rank_last cls_rising c
  obtain ⟨rk, hk⟩ : ∃ rk, rank clsL 12 c 388 = rk := ⟨_, rfl⟩
  have hv : clsOf c = if rk = 0 then 0 else if fld clsL 12 (rk - 1) 5 5 < c then 0 else fld clsL 12 (rk - 1) 10 2 := by unfold clsOf; rw [hk]
  unfold clsL at hk hv
  rw [hk] at hrk
  have hr388 := hrk.1
  have n1 := fun (k : Nat) (hk : k ≤ 388) (w' : World) => num_at clsS 12 k 5 5 (by omega) (by omega) w' (12 * (k : Int) + 5) (by omega) 5 rfl
  have n2 := fun (k : Nat) (hk : k ≤ 388) (w' : World) => num_at clsS 12 k 10 2 (by omega) (by omega) w' (12 * (k : Int) + 10) (by omega) 2 rfl
  have HLA := Lib.hid hla
  have HRK := Lib.hid hrk
  have N1 := Lib.hid n1
  have N2 := Lib.hid n2
  clear hla hrk n1 n2 hk
  cases rk with
  | zero =>
    rw [hv, if_pos rfl]
    clear hv
    go_enter Try.func13, Try.ntmps13
    conv in (occs := *) (Value.string _) => all_goals change Value.string clsS
    generalize clsS = S at *
    go_wp2_with fail
    refine HLA.out.mono ?_
    rintro e w1 ⟨r, rfl, hL, hu⟩
    obtain rfl := last_uniq hL HRK.out
    rw [show ((0 : Nat) : Int) - 1 = -1 from rfl]
    go_wp2_with fail
    go_ret
    exact ⟨rfl, hu⟩
  | succ k =>
    rw [if_neg (Nat.succ_ne_zero k), Nat.add_sub_cancel] at hv
    rw [hv]
    clear hv
    obtain ⟨x, hx⟩ : ∃ x, fld clsS.data.toList 12 k 5 5 = x := ⟨_, rfl⟩
    obtain ⟨y, hy⟩ : ∃ y, fld clsS.data.toList 12 k 10 2 = y := ⟨_, rfl⟩
    have m1 := fun (w' : World) => N1.out k (by omega) w'
    have m2 := fun (w' : World) => N2.out k (by omega) w'
    have hyb : y ≤ 4335 := by rw [← hy]; have := num_le ((clsS.data.toList.drop (k * 12 + 10)).take 2); have h2 : ((clsS.data.toList.drop (k * 12 + 10)).take 2).length ≤ 2 := by rw [List.length_take]; omega
                              have h3 : 16 ^ ((clsS.data.toList.drop (k * 12 + 10)).take 2).length ≤ 16 ^ 2 := Nat.pow_le_pow_right (by decide) h2
                              unfold fld; omega
    rw [hx] at m1 ⊢
    rw [hy] at m2 ⊢
    clear hx hy N1 N2
    by_cases hlt : x < c
    · rw [if_pos hlt]
      go_enter Try.func13, Try.ntmps13
      conv in (occs := *) (Value.string _) => all_goals change Value.string clsS
      generalize clsS = S at *
      go_wp2_with fail
      refine HLA.out.mono ?_
      rintro e w1 ⟨r, rfl, hL, hu⟩
      obtain rfl := last_uniq hL HRK.out
      rw [show ((k + 1 : Nat) : Int) - 1 = (k : Int) by omega]
      go_wp2_with fail
      refine (m1 _).mono ?_
      rintro e w2 ⟨rfl, rfl⟩
      go_wp2_with fail
      go_ret
      exact ⟨rfl, hu⟩
    · rw [if_neg hlt]
      go_enter Try.func13, Try.ntmps13
      conv in (occs := *) (Value.string _) => all_goals change Value.string clsS
      generalize clsS = S at *
      go_wp2_with fail
      refine HLA.out.mono ?_
      rintro e w1 ⟨r, rfl, hL, hu⟩
      obtain rfl := last_uniq hL HRK.out
      rw [show ((k + 1 : Nat) : Int) - 1 = (k : Int) by omega]
      go_wp2_with fail
      refine (m1 _).mono ?_
      rintro e w2 ⟨rfl, rfl⟩
      go_wp2_with fail
      refine (m2 _).mono ?_
      rintro e w3 ⟨rfl, rfl⟩
      go_wp2_with fail
      go_ret
      exact ⟨rfl, hu⟩

theorem fld_le (l : List UInt8) (size i o n : Nat) (hn : n ≤ 5) : fld l size i o n ≤ 17825775 := by
  unfold fld
  have h := num_le ((l.drop (i * size + o)).take n)
  have h2 : ((l.drop (i * size + o)).take n).length ≤ 5 := by rw [List.length_take]; omega
  have h3 : 16 ^ ((l.drop (i * size + o)).take n).length ≤ 16 ^ 5 := Nat.pow_le_pow_right (by decide) h2
  omega

end Go.Proofs.Ythkbjbbffkgpfaa
