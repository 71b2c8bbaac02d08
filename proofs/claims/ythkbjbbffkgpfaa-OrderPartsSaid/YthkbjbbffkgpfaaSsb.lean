/- slices.SortStableFunc: two runs of one length change places. -/
import Derived.Test.YthkbjbbffkgpfaaSsa
namespace Go.Proofs.Ythkbjbbffkgpfaa
open Go.RowKit
variable {W : World} {g N D : Nat} {P S : List Nat}

set_option maxRecDepth 100000 in
theorem swap_range (X A Y B Z : List Nat) (o len cap a b n : Nat) (cv : Value) (w : World) (h : Pat W g N D P S (X ++ (A ++ (Y ++ (B ++ Z)))) w) (ho : o = P.length) (hlen : len = (X ++ (A ++ (Y ++ (B ++ Z)))).length)
    (ha : a = X.length) (hA : A.length = n) (hB : B.length = n) (hb : b = X.length + n + Y.length) (hN : N ≤ 4611686018427387904) :
    Calls Try.prog 38 #[.slice (some ⟨g, o, none⟩) len cap, .int .i64 (a : Int), .int .i64 (b : Int), .int .i64 (n : Int), cv] w fun e w' => e = .returned (.tuple #[]) ∧ Pat W g N D P S (X ++ (B ++ (Y ++ (A ++ Z)))) w' := by
  have hlt := h.lt
  rw [← hlen] at hlt
  have hl2 : b + n ≤ len := by rw [hlen]; simp; omega
  have hl3 : a + n ≤ b := by omega
  have H := Lib.hid h
  have Ho := Lib.hid ho
  have Ha := Lib.hid ha
  have Hb := Lib.hid hb
  have HA := Lib.hid hA
  have HB := Lib.hid hB
  have hoN : o + len ≤ 4611686018427387904 := by omega
  clear h ho ha hb hA hB hlen
  go_enter Try.func38, Try.ntmps38
  go_wp2_with fail
  go_loopw [10] (fun i wr => ∃ (k : Nat) (A1 A2 B1 B2 : List Nat), k ≤ n ∧ i = .int .i64 (k : Int) ∧ Hid (A = A1 ++ A2) ∧ Hid (B = B1 ++ B2) ∧ Hid (A1.length = k) ∧ Hid (B1.length = k) ∧ Hid (Pat W g N D P S (X ++ (B1 ++ (A2 ++ (Y ++ (A1 ++ (B2 ++ Z)))))) wr)) (fun i _ => n - (intOf i).toNat)
  case atStart => exact ⟨0, [], A, [], B, Nat.zero_le _, rfl, Lib.hid rfl, Lib.hid rfl, Lib.hid rfl, Lib.hid rfl, H⟩
  case round =>
    obtain ⟨k, A1, A2, B1, B2, hk, rfl, eA, eB, hA1, hB1, hat⟩ := hrel
    clear H
    by_cases hkn : k < n
    · obtain ⟨x, A3, rfl⟩ : ∃ x A3, A2 = x :: A3 := by
        cases A2 with
        | nil => have h1 := HA.out; have h2 := hA1.out; rw [eA.out] at h1; simp at h1; omega
        | cons x A3 => exact ⟨x, A3, rfl⟩
      obtain ⟨y, B3, rfl⟩ : ∃ y B3, B2 = y :: B3 := by
        cases B2 with
        | nil => have h1 := HB.out; have h2 := hB1.out; rw [eB.out] at h1; simp at h1; omega
        | cons y B3 => exact ⟨y, B3, rfl⟩
      have h0 := hat.out
      rw [show X ++ (B1 ++ (x :: A3 ++ (Y ++ (A1 ++ (y :: B3 ++ Z))))) = (X ++ B1) ++ x :: ((A3 ++ Y ++ A1) ++ y :: (B3 ++ Z)) by simp] at h0
      have i1 : o + (a + k) = P.length + (X ++ B1).length := by rw [Ho.out, Ha.out, List.length_append, hB1.out]
      have hA3 : A3.length + 1 + k = n := by have h1 := HA.out; have h2 := hA1.out; rw [eA.out] at h1; simp at h1; omega
      have i2 : o + (b + k) = P.length + (X ++ B1).length + 1 + (A3 ++ Y ++ A1).length := by
        have h2 := hA1.out
        have h3 := hB1.out
        rw [Ho.out, Hb.out]
        simp only [List.length_append]
        omega
      obtain ⟨⟨c1, f1⟩, c2, f2⟩ := h0.two i1 i2
      have HS := Lib.hid (h0.swap i1 i2)
      clear h0 i1 i2 hat
      go_wp2_with fail
      go_region
      go_wp2_with fail
      go_roundw
      case rel =>
        refine ⟨k + 1, A1 ++ [x], A3, B1 ++ [y], B3, by omega, by go_num, Lib.hid (by rw [eA.out]; simp), Lib.hid (by rw [eB.out]; simp), Lib.hid (by rw [List.length_append, hA1.out]; rfl), Lib.hid (by rw [List.length_append, hB1.out]; rfl), Lib.hid ?_⟩
        have := HS.out.go ((Up.refl _).drew)
        simpa using this
      case measure => simp [intOf]; omega
    · obtain rfl : k = n := by omega
      have h0 := hat.out
      have e1 : A2 = [] := List.eq_nil_of_length_eq_zero (by have h1 := HA.out; have h2 := hA1.out; rw [eA.out] at h1; simp at h1; omega)
      have e2 : B2 = [] := List.eq_nil_of_length_eq_zero (by have h1 := HB.out; have h2 := hB1.out; rw [eB.out] at h1; simp at h1; omega)
      have eA := eA.out
      have eB := eB.out
      subst e1 e2
      rw [List.append_nil] at eA eB
      subst eA eB
      clear hat
      have H2 := Lib.hid h0
      clear h0
      go_wp2_with fail
      go_end0
      exact ⟨rfl, by simpa using H2.out⟩

end Go.Proofs.Ythkbjbbffkgpfaa
