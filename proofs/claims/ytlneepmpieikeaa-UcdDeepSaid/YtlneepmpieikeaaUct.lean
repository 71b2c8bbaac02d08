/- The document's Second. -/
import Derived.Test.YtlneepmpieikeaaUcs
namespace Go.Proofs.Ytlneepmpieikeaa
open Go.RowKit

theorem par_sz : parS.size = 14115 := by rw [size_of]; exact par_size
/-- All second ones, in one pass. -/
def seconds : Nat → List UInt8 → List Nat
  | 0, _ => []
  | n + 1, l => num ((l.drop 5).take 5) :: seconds n (l.drop 15)
theorem seconds_get : ∀ (n : Nat) (l : List UInt8) (i : Nat), i < n → (seconds n l)[i]? = some (fld l 15 i 5 5)
  | 0, _, _, h => absurd h (Nat.not_lt_zero _)
  | n + 1, l, 0, _ => by simp [seconds, fld]
  | n + 1, l, i + 1, h => by
    rw [seconds, List.getElem?_cons_succ, seconds_get n (l.drop 15) i (by omega)]
    unfold fld
    rw [List.drop_drop, Nat.succ_mul, Nat.add_comm (i * 15) 15, Nat.add_assoc]
theorem seconds_len : ∀ (n : Nat) (l : List UInt8), (seconds n l).length = n
  | 0, _ => rfl
  | n + 1, l => by rw [seconds, List.length_cons, seconds_len n]
theorem seconds_in : (seconds 941 parS.data.toList).all (fun x => Nat.ble 768 x && Nat.ble x 71984) = true := by kernel_rfl

/-- Is a character some row's second one? -/
noncomputable def isSec (c : Nat) : Bool := (seconds 941 parL).any (fun x => x == c)
def hanV (c : Nat) : Bool := (decide (4449 ≤ c) && decide (c ≤ 4469)) || (decide (4520 ≤ c) && decide (c ≤ 4546))
noncomputable def secOf (c : Nat) : Bool := hanV c || isSec c
theorem isSec_iff (c : Nat) : isSec c = true ↔ ∃ i, i < 941 ∧ fld parL 15 i 5 5 = c := by
  unfold isSec
  rw [List.any_eq_true]
  constructor
  · rintro ⟨x, hx, he⟩
    obtain ⟨i, hi⟩ := List.getElem?_of_mem hx
    have hl := (List.getElem?_eq_some_iff.1 hi).1
    rw [seconds_len] at hl
    rw [seconds_get 941 parL i hl] at hi
    exact ⟨i, hl, by rw [Option.some.inj hi]; exact eq_of_beq he⟩
  · rintro ⟨i, hi, rfl⟩
    exact ⟨_, List.mem_of_getElem? (seconds_get 941 parL i hi), by simp⟩
theorem isSec_range (c : Nat) (h : isSec c = true) : 768 ≤ c ∧ c ≤ 71984 := by
  obtain ⟨i, hi, rfl⟩ := (isSec_iff c).1 h
  have := List.all_eq_true.1 seconds_in _ (List.mem_of_getElem? (seconds_get 941 parS.data.toList i hi))
  rw [Bool.and_eq_true, Nat.ble_eq, Nat.ble_eq] at this
  exact this

set_option maxRecDepth 100000 in
set_option maxHeartbeats 2000000 in
theorem second_ref (c : Nat) (w : World) : Calls Try.prog 20 #[.int .u32 (c : Int)] w fun e w' => e = .returned (.bool (secOf c)) ∧ Up w w' := by
  have hsz := par_sz
  have hiff := isSec_iff c
  have hrg := isSec_range c
  unfold secOf
  obtain ⟨s, hs⟩ : ∃ s, isSec c = s := ⟨_, rfl⟩
  rw [hs] at hiff hrg ⊢
  clear hs
  unfold hanV
  unfold parL at hiff
  have n1 := fun (k : Nat) (hk : k < 941) (w' : World) => num_at parS 15 k 5 5 (by omega) (by omega) w' (15 * (k : Int) + 5) (by omega) 5 rfl
  have Hiff := Lib.hid hiff
  have Hrg := Lib.hid hrg
  have N1 := Lib.hid n1
  clear hiff hrg n1 hsz
  by_cases h1 : 4449 ≤ c ∧ c ≤ 4469
  · obtain ⟨h1, h2⟩ := h1
    clear N1 Hrg Hiff
    go_enter Try.func20, Try.ntmps20
    conv in (occs := *) (Value.string _) => all_goals change Value.string parS
    generalize parS = S at *
    go_wp2
    go_ret
    exact ⟨by simp [h1, h2], Up.refl _⟩
  · have hA : (decide (4449 ≤ c) && decide (c ≤ 4469)) = false := by rw [Bool.and_eq_false_iff]; simp only [decide_eq_false_iff_not]; omega
    rw [hA]
    clear hA
    by_cases h2 : 4520 ≤ c ∧ c ≤ 4546
    · obtain ⟨h2, h3⟩ := h2
      have h4 : 4469 < c := by omega
      have h5 : 4449 ≤ c := by omega
      clear N1 Hrg Hiff h1
      go_enter Try.func20, Try.ntmps20
      conv in (occs := *) (Value.string _) => all_goals change Value.string parS
      generalize parS = S at *
      go_wp2
      go_ret
      exact ⟨by simp [h2, h3], Up.refl _⟩
    · have hB : (decide (4520 ≤ c) && decide (c ≤ 4546)) = false := by rw [Bool.and_eq_false_iff]; simp only [decide_eq_false_iff_not]; omega
      rw [hB]
      clear hB
      have e : (false || false || s) = s := rfl
      rw [e]
      clear e
      by_cases h3 : c < 768
      · cases s with
        | true => have := Hrg.out rfl; omega
        | false =>
          have h4 : c < 4449 := by omega
          have h5 : c < 4520 := by omega
          clear N1 Hrg Hiff h1 h2
          go_enter Try.func20, Try.ntmps20
          conv in (occs := *) (Value.string _) => all_goals change Value.string parS
          generalize parS = S at *
          go_wp2
          go_ret
          exact ⟨rfl, Up.refl _⟩
      · by_cases h4 : 71984 < c
        · cases s with
          | true => have := Hrg.out rfl; omega
          | false =>
            have h5 : 4469 < c := by omega
            have h6 : 4546 < c := by omega
            have h7 : 4449 ≤ c := by omega
            have h8 : 4520 ≤ c := by omega
            clear N1 Hrg Hiff h1 h2
            go_enter Try.func20, Try.ntmps20
            conv in (occs := *) (Value.string _) => all_goals change Value.string parS
            generalize parS = S at *
            go_wp2
            go_ret
            exact ⟨rfl, Up.refl _⟩
        · clear Hrg
          have hlo : c < 4449 ∨ (4449 ≤ c ∧ 4469 < c ∧ c < 4520) ∨ (4449 ≤ c ∧ 4469 < c ∧ 4520 ≤ c ∧ 4546 < c) := by omega
          clear h1 h2
          have h3' : 768 ≤ c := by omega
          have h4' : c ≤ 71984 := by omega
          clear h3 h4
          rcases hlo with g1 | ⟨g1, g2, g3⟩ | ⟨g1, g2, g3, g4⟩
          · have g2 : c < 4520 := by omega
            go_enter Try.func20, Try.ntmps20
            conv in (occs := *) (Value.string _) => all_goals change Value.string parS
            generalize parS = S at *
            go_wp2
            go_loopw [3] (fun i wr => ∃ k : Nat, k ≤ 941 ∧ i = .int .i64 (15 * (k : Int) + 5) ∧ Hid (∀ j, j < k → fld S.data.toList 15 j 5 5 ≠ c) ∧ w = wr) (fun i _ => 14120 - (intOf i).toNat)
            case atStart => exact ⟨0, by omega, rfl, Lib.hid (fun j h => by omega), rfl⟩
            case round =>
              obtain ⟨k, hk, rfl, hno, rfl⟩ := hrel
              by_cases hlt : k < 941
              · obtain ⟨x, hx⟩ : ∃ x, fld S.data.toList 15 k 5 5 = x := ⟨_, rfl⟩
                have m1 := N1.out k hlt
                rw [hx] at m1
                have HX := Lib.hid hx
                clear hx
                by_cases hxc : x = c
                · subst hxc
                  have hs : s = true := Hiff.out.2 ⟨k, hlt, HX.out⟩
                  subst hs
                  go_wp2_with fail
                  refine (m1 _).mono ?_
                  rintro e w1 ⟨rfl, rfl⟩
                  go_wp2_with fail
                  go_ret
                  exact ⟨rfl, Up.refl _⟩
                · have hne : ((x : Int) == (c : Int)) = false := by simp; omega
                  go_wp2_with fail
                  refine (m1 _).mono ?_
                  rintro e w1 ⟨rfl, rfl⟩
                  go_wp2_with fail
                  go_roundw
                  case rel => exact ⟨k + 1, by omega, by go_num, Lib.hid (fun j hj => by
                    by_cases e : j = k
                    · subst e; rw [HX.out]; exact hxc
                    · exact hno.out j (by omega)), by first | rfl | trivial⟩
                  case measure => simp [intOf]; omega
              · obtain rfl : k = 941 := by omega
                have hs : s = false := by
                  cases s with
                  | false => rfl
                  | true => obtain ⟨i, hi, he⟩ := Hiff.out.1 rfl; exact absurd he (hno.out i hi)
                subst hs
                go_wp2_with fail
                go_ret
                exact ⟨rfl, Up.refl _⟩
          · go_enter Try.func20, Try.ntmps20
            conv in (occs := *) (Value.string _) => all_goals change Value.string parS
            generalize parS = S at *
            go_wp2
            go_loopw [3] (fun i wr => ∃ k : Nat, k ≤ 941 ∧ i = .int .i64 (15 * (k : Int) + 5) ∧ Hid (∀ j, j < k → fld S.data.toList 15 j 5 5 ≠ c) ∧ w = wr) (fun i _ => 14120 - (intOf i).toNat)
            case atStart => exact ⟨0, by omega, rfl, Lib.hid (fun j h => by omega), rfl⟩
            case round =>
              obtain ⟨k, hk, rfl, hno, rfl⟩ := hrel
              by_cases hlt : k < 941
              · obtain ⟨x, hx⟩ : ∃ x, fld S.data.toList 15 k 5 5 = x := ⟨_, rfl⟩
                have m1 := N1.out k hlt
                rw [hx] at m1
                have HX := Lib.hid hx
                clear hx
                by_cases hxc : x = c
                · subst hxc
                  have hs : s = true := Hiff.out.2 ⟨k, hlt, HX.out⟩
                  subst hs
                  go_wp2_with fail
                  refine (m1 _).mono ?_
                  rintro e w1 ⟨rfl, rfl⟩
                  go_wp2_with fail
                  go_ret
                  exact ⟨rfl, Up.refl _⟩
                · have hne : ((x : Int) == (c : Int)) = false := by simp; omega
                  go_wp2_with fail
                  refine (m1 _).mono ?_
                  rintro e w1 ⟨rfl, rfl⟩
                  go_wp2_with fail
                  go_roundw
                  case rel => exact ⟨k + 1, by omega, by go_num, Lib.hid (fun j hj => by
                    by_cases e : j = k
                    · subst e; rw [HX.out]; exact hxc
                    · exact hno.out j (by omega)), by first | rfl | trivial⟩
                  case measure => simp [intOf]; omega
              · obtain rfl : k = 941 := by omega
                have hs : s = false := by
                  cases s with
                  | false => rfl
                  | true => obtain ⟨i, hi, he⟩ := Hiff.out.1 rfl; exact absurd he (hno.out i hi)
                subst hs
                go_wp2_with fail
                go_ret
                exact ⟨rfl, Up.refl _⟩
          · go_enter Try.func20, Try.ntmps20
            conv in (occs := *) (Value.string _) => all_goals change Value.string parS
            generalize parS = S at *
            go_wp2
            go_loopw [3] (fun i wr => ∃ k : Nat, k ≤ 941 ∧ i = .int .i64 (15 * (k : Int) + 5) ∧ Hid (∀ j, j < k → fld S.data.toList 15 j 5 5 ≠ c) ∧ w = wr) (fun i _ => 14120 - (intOf i).toNat)
            case atStart => exact ⟨0, by omega, rfl, Lib.hid (fun j h => by omega), rfl⟩
            case round =>
              obtain ⟨k, hk, rfl, hno, rfl⟩ := hrel
              by_cases hlt : k < 941
              · obtain ⟨x, hx⟩ : ∃ x, fld S.data.toList 15 k 5 5 = x := ⟨_, rfl⟩
                have m1 := N1.out k hlt
                rw [hx] at m1
                have HX := Lib.hid hx
                clear hx
                by_cases hxc : x = c
                · subst hxc
                  have hs : s = true := Hiff.out.2 ⟨k, hlt, HX.out⟩
                  subst hs
                  go_wp2_with fail
                  refine (m1 _).mono ?_
                  rintro e w1 ⟨rfl, rfl⟩
                  go_wp2_with fail
                  go_ret
                  exact ⟨rfl, Up.refl _⟩
                · have hne : ((x : Int) == (c : Int)) = false := by simp; omega
                  go_wp2_with fail
                  refine (m1 _).mono ?_
                  rintro e w1 ⟨rfl, rfl⟩
                  go_wp2_with fail
                  go_roundw
                  case rel => exact ⟨k + 1, by omega, by go_num, Lib.hid (fun j hj => by
                    by_cases e : j = k
                    · subst e; rw [HX.out]; exact hxc
                    · exact hno.out j (by omega)), by first | rfl | trivial⟩
                  case measure => simp [intOf]; omega
              · obtain rfl : k = 941 := by omega
                have hs : s = false := by
                  cases s with
                  | false => rfl
                  | true => obtain ⟨i, hi, he⟩ := Hiff.out.1 rfl; exact absurd he (hno.out i hi)
                subst hs
                go_wp2_with fail
                go_ret
                exact ⟨rfl, Up.refl _⟩

end Go.Proofs.Ytlneepmpieikeaa
