/- slices.SortStableFunc: two runs, one behind the other, change places. -/
import Derived.Test.YthkbjbbffkgpfaaSsb
namespace Go.Proofs.Ythkbjbbffkgpfaa
open Go.RowKit
variable {W : World} {g N D : Nat} {P S : List Nat}

set_option maxRecDepth 100000 in
set_option maxHeartbeats 1600000 in
theorem rotate_run (X A B Z : List Nat) (o len cap a m b : Nat) (cv : Value) (w : World) (h : Pat W g N D P S (X ++ (A ++ (B ++ Z))) w) (ho : o = P.length) (hlen : len = (X ++ (A ++ (B ++ Z))).length)
    (ha : a = X.length) (hm : m = a + A.length) (hb : b = m + B.length) (hA : 0 < A.length) (hB : 0 < B.length) (hN : N ≤ 4611686018427387904) :
    Calls Try.prog 37 #[.slice (some ⟨g, o, none⟩) len cap, .int .i64 (a : Int), .int .i64 (m : Int), .int .i64 (b : Int), cv] w fun e w' => e = .returned (.tuple #[]) ∧ Pat W g N D P S (X ++ (B ++ (A ++ Z))) w' := by
  have hlt := h.lt
  have hll : len = X.length + A.length + B.length + Z.length := by rw [hlen]; simp; omega
  have hlN : P.length + len ≤ N := by rw [hlen]; exact hlt
  have H := Lib.hid h
  have e1 : (m : Int) - (a : Int) = (A.length : Int) := by omega
  have e2 : (b : Int) - (m : Int) = (B.length : Int) := by omega
  have hmN : m ≤ N := by omega
  have hbN : b ≤ N := by omega
  have haN : a ≤ m := by omega
  have hmb : m ≤ b := by omega
  have Hm := Lib.hid (show m = X.length + A.length by omega)
  have HL := Lib.hid hll
  have Ho := Lib.hid ho
  clear h hlt hlen ha hm hb hll ho
  go_enter Try.func37, Try.ntmps37
  go_wp2_with fail
  go_loopw [10, 11] (fun i j wr => ∃ (X' A' B' Z' : List Nat), i = .int .i64 (A'.length : Int) ∧ j = .int .i64 (B'.length : Int) ∧ 0 < A'.length ∧ 0 < B'.length ∧ Hid (m = X'.length + A'.length) ∧ Hid (len = X'.length + A'.length + B'.length + Z'.length) ∧ Hid (X' ++ (B' ++ (A' ++ Z')) = X ++ (B ++ (A ++ Z))) ∧ Hid (Pat W g N D P S (X' ++ (A' ++ (B' ++ Z'))) wr)) (fun i j _ => (intOf i).toNat + (intOf j).toNat)
  case atStart => exact ⟨X, A, B, Z, rfl, rfl, hA, hB, Hm, HL, Lib.hid rfl, H⟩
  case round =>
    obtain ⟨X', A', B', Z', rfl, rfl, hA', hB', hm', hl', hg, hat⟩ := hrel
    clear H HL Hm hA hB e1 e2
    have hgo := hg.out
    have hm2 := hm'.out
    have hl2 := hl'.out
    obtain ⟨i, hi⟩ : ∃ i, A'.length = i := ⟨_, rfl⟩
    obtain ⟨j, hj⟩ : ∃ j, B'.length = j := ⟨_, rfl⟩
    rw [hi] at hA' hm2 hl2 ⊢
    rw [hj] at hB' hl2 ⊢
    have e3 : (m : Int) - (i : Int) = (X'.length : Int) := by omega
    have hxm : X'.length ≤ m := by omega
    have hiN : i ≤ N := by omega
    have hjN : j ≤ N := by omega
    by_cases hij : i = j
    · have hne : ((i : Int) != (j : Int)) = false := by simp [hij]
      have C := Lib.hid (fun w' (hat : Pat W g N D P S (X' ++ (A' ++ ([] ++ (B' ++ Z')))) w') => swap_range X' A' [] B' Z' o len cap X'.length m i cv w' hat Ho.out (by simp; omega) rfl hi (by omega) (by simp; omega) hN)
      have HG := Lib.hid (show X' ++ (B' ++ ([] ++ (A' ++ Z'))) = X ++ (B ++ (A ++ Z)) by rw [List.nil_append]; exact hgo)
      clear hg hgo hm' hm2 hl' hl2 hi hj hiN hjN
      subst hij
      go_wp2_with fail
      refine (C.out _ (by have := hat.out; simpa using this)).mono ?_
      rintro e w2 ⟨rfl, h2⟩
      rw [HG.out] at h2
      go_wp2_with fail
      go_end0
      exact ⟨rfl, h2⟩
    by_cases hgt : j < i
    · have hne : ((i : Int) != (j : Int)) = true := by simp; omega
      obtain ⟨A1, A2, rfl, hA1, hA2⟩ : ∃ A1 A2, A' = A1 ++ A2 ∧ A1.length = j ∧ A2.length = i - j := ⟨A'.take j, A'.drop j, (List.take_append_drop _ _).symm, by rw [List.length_take]; omega, by rw [List.length_drop]; omega⟩
      have e4 : (i : Int) - (j : Int) = (A2.length : Int) := by omega
      have C := Lib.hid (fun w' (hat : Pat W g N D P S (X' ++ (A1 ++ (A2 ++ (B' ++ Z')))) w') => swap_range X' A1 A2 B' Z' o len cap X'.length m j cv w' hat Ho.out (by simp; omega) rfl hA1 hj (by omega) hN)
      have HG := Lib.hid hgo
      have HT := Lib.hid hat.out
      have HM := Lib.hid hm2
      have HL := Lib.hid hl2
      have HI := Lib.hid hi
      have HJ := Lib.hid hj
      have HA1 := Lib.hid hA1
      have HA2 := Lib.hid hA2
      clear hg hgo hat hm2 hl2 hi hj hA1 hA2 hm' hl'
      go_wp2_with fail
      refine (C.out _ (by have := HT.out; simpa using this)).mono ?_
      rintro e w2 ⟨rfl, h2⟩
      have H2 := Lib.hid h2
      clear h2
      go_wp2_with fail
      go_roundw
      case rel => exact ⟨X' ++ B', A2, A1, Z', rfl, by rw [HA1.out], (by have := HA2.out; omega), (by have := HA1.out; omega), Lib.hid (by have h1 := HM.out; have h2 := HA2.out; have h3 := HJ.out; simp; omega), Lib.hid (by have h1 := HL.out; have h2 := HA2.out; have h3 := HA1.out; have h4 := HJ.out; simp; omega), Lib.hid (by rw [← HG.out]; simp), Lib.hid (by have := H2.out; simpa using this)⟩
      case measure => simp [intOf]; omega
    · have hne : ((i : Int) != (j : Int)) = true := by simp; omega
      obtain ⟨B1, B2, rfl, hB1, hB2⟩ : ∃ B1 B2, B' = B1 ++ B2 ∧ B1.length = j - i ∧ B2.length = i := ⟨B'.take (j - i), B'.drop (j - i), (List.take_append_drop _ _).symm, by rw [List.length_take]; omega, by rw [List.length_drop]; omega⟩
      have e4 : (j : Int) - (i : Int) = (B1.length : Int) := by omega
      have e5 : (m : Int) + (j : Int) - (i : Int) = ((m + j - i : Nat) : Int) := by omega
      have hmj : m + j - i ≤ N := by omega
      have C := Lib.hid (fun w' (hat : Pat W g N D P S (X' ++ (A' ++ (B1 ++ (B2 ++ Z')))) w') => swap_range X' A' B1 B2 Z' o len cap X'.length (m + j - i) i cv w' hat Ho.out (by simp; omega) rfl hi hB2 (by omega) hN)
      have HG := Lib.hid hgo
      have HT := Lib.hid hat.out
      have HM := Lib.hid hm2
      have HL := Lib.hid hl2
      have HI := Lib.hid hi
      have HJ := Lib.hid hj
      have HA1 := Lib.hid hB1
      have HA2 := Lib.hid hB2
      clear hg hgo hat hm2 hl2 hi hj hB1 hB2 hm' hl'
      generalize m + j - i = q at *
      go_wp2_with fail
      refine (C.out _ (by have := HT.out; simpa using this)).mono ?_
      rintro e w2 ⟨rfl, h2⟩
      have H2 := Lib.hid h2
      clear h2
      go_wp2_with fail
      go_roundw
      case rel => exact ⟨X', B2, B1, A' ++ Z', by rw [HA2.out], rfl, (by have := HA2.out; omega), (by have := HA1.out; omega), Lib.hid (by have h1 := HM.out; have h2 := HA2.out; omega), Lib.hid (by have h1 := HL.out; have h2 := HA2.out; have h3 := HA1.out; have h4 := HI.out; simp; omega), Lib.hid (by rw [← HG.out]; simp), Lib.hid (by have := H2.out; simpa using this)⟩
      case measure => simp [intOf]; omega

end Go.Proofs.Ythkbjbbffkgpfaa
