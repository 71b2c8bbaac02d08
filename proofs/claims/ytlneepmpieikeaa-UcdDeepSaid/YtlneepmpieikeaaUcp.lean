/- The document's Pair. -/
import Derived.Test.YtlneepmpieikeaaUct
namespace Go.Proofs.Ytlneepmpieikeaa
open Go.RowKit

def climbs : List Nat → Bool
  | a :: b :: r => Nat.ble a b && climbs (b :: r)
  | _ => true
theorem par_climbs : climbs (keys 941 15 parS.data.toList) = true := by kernel_rfl
theorem climbs_le : ∀ (L : List Nat), climbs L = true → ∀ (i j a b : Nat), i ≤ j → L[i]? = some a → L[j]? = some b → a ≤ b
  | [], _, i, j, a, b, _, ha, _ => by simp at ha
  | [x], _, i, j, a, b, hij, ha, hb => by
    have h1 := (List.getElem?_eq_some_iff.1 hb).1
    have h2 := (List.getElem?_eq_some_iff.1 ha).1
    simp at h1 h2
    subst h1 h2
    rw [ha] at hb
    exact Nat.le_of_eq (Option.some.inj hb)
  | x :: y :: L, h, i, j, a, b, hij, ha, hb => by
    unfold climbs at h
    rw [Bool.and_eq_true] at h
    have hxy : x ≤ y := by simpa [Nat.ble_eq] using h.1
    match i, j, hij with
    | 0, 0, _ =>
      rw [ha] at hb
      exact Nat.le_of_eq (Option.some.inj hb)
    | 0, j + 1, _ =>
      simp only [List.getElem?_cons_zero, Option.some.injEq] at ha
      rw [List.getElem?_cons_succ] at hb
      have := climbs_le (y :: L) h.2 0 j y b (by omega) (by simp) hb
      omega
    | i + 1, j + 1, hij =>
      rw [List.getElem?_cons_succ] at ha hb
      exact climbs_le (y :: L) h.2 i j a b (by omega) ha hb
theorem par_le (i j : Nat) (hij : i ≤ j) (hj : j < 941) : key parS.data.toList 15 i ≤ key parS.data.toList 15 j :=
  climbs_le _ par_climbs i j _ _ hij (keys_get 15 941 _ i (by omega)) (keys_get 15 941 _ j hj)

/-- What a and b are composed to: some row says so, or none does. -/
def PairP (l : List UInt8) (a b x : Nat) (ok : Bool) : Prop :=
  (ok = true ∧ ∃ i, i < 941 ∧ key l 15 i = a ∧ fld l 15 i 5 5 = b ∧ fld l 15 i 10 5 = x) ∨ (ok = false ∧ x = 0 ∧ ∀ i, i < 941 → key l 15 i = a → fld l 15 i 5 5 ≠ b)
theorem row_uniq {i j : Nat} (hi : i < 941) (hj : j < 941) (h1 : key parL 15 i = key parL 15 j) (h2 : fld parL 15 i 5 5 = fld parL 15 j 5 5) : i = j := by
  refine Decidable.byContradiction fun hne => ?_
  by_cases h : i < j
  · have := pair_lt par_rising h hj
    unfold parL at h1 h2
    omega
  · have := pair_lt par_rising (show j < i by omega) hi
    unfold parL at h1 h2
    omega
theorem pair_uniq {a b x y : Nat} {p q : Bool} (h : PairP parL a b x p) (h' : PairP parL a b y q) : x = y ∧ p = q := by
  rcases h with ⟨rfl, i, hi, h1, h2, h3⟩ | ⟨rfl, rfl, hn⟩ <;> rcases h' with ⟨rfl, j, hj, g1, g2, g3⟩ | ⟨rfl, rfl, hm⟩
  · obtain rfl := row_uniq hi hj (h1.trans g1.symm) (h2.trans g2.symm)
    exact ⟨h3.symm.trans g3, rfl⟩
  · exact absurd h2 (hm i hi h1)
  · exact absurd g2 (hn j hj g1)
  · exact ⟨rfl, rfl⟩

set_option maxRecDepth 100000 in
set_option maxHeartbeats 1600000 in
theorem pair_ref (a b : Nat) (w : World) : Calls Try.prog 18 #[.int .u32 (a : Int), .int .u32 (b : Int)] w fun e w' => ∃ (x : Nat) (ok : Bool), e = .returned (.tuple #[.int .u32 (x : Int), .bool ok]) ∧ PairP parL a b x ok ∧ Up w w' := by
  have hla := last_15 parS 941 (Lib.hid (by rw [par_sz])) (by rw [par_sz]; decide) a (Lib.hid par_le) w
  have n1 := fun (k : Nat) (hk : k < 941) (w' : World) => num_at parS 15 k 0 5 (by omega) (by omega) w' (15 * (k : Int)) (by omega) 5 rfl
  have n2 := fun (k : Nat) (hk : k < 941) (w' : World) => num_at parS 15 k 5 5 (by omega) (by omega) w' (15 * (k : Int) + 5) (by omega) 5 rfl
  have n3 := fun (k : Nat) (hk : k < 941) (w' : World) => num_at parS 15 k 10 5 (by omega) (by omega) w' (15 * (k : Int) + 10) (by omega) 5 rfl
  have hmono := par_le
  have HLA := Lib.hid hla
  have HM := Lib.hid hmono
  have N1 := Lib.hid n1
  have N2 := Lib.hid n2
  have N3 := Lib.hid n3
  clear hla n1 n2 n3 hmono
  unfold parL
  go_enter Try.func18, Try.ntmps18
  conv in (occs := *) (Value.string _) => all_goals change Value.string parS
  generalize parS = S at *
  go_wp2_with fail
  refine HLA.out.mono ?_
  rintro e w1 ⟨r, rfl, hL, hu⟩
  have hr := hL.1
  have HL := Lib.hid hL
  clear hL HLA
  go_wp2_with fail
  go_loopw [6] (fun i wr => ∃ k : Nat, k ≤ r ∧ i = .int .i64 ((k : Int) - 1) ∧ Hid (∀ j, k ≤ j → j < 941 → key S.data.toList 15 j = a → fld S.data.toList 15 j 5 5 ≠ b) ∧ w1 = wr) (fun i _ => (intOf i + 1).toNat)
  case atStart => exact ⟨r, Nat.le_refl _, rfl, Lib.hid (fun j h1 h2 h3 => by have := HL.out.2.2 j h1 h2; omega), rfl⟩
  case round =>
    obtain ⟨k, hk, rfl, hno, rfl⟩ := hrel
    cases k with
    | zero =>
      rw [show ((0 : Nat) : Int) - 1 = -1 from rfl]
      clear N1 N2 N3 HL HM
      go_wp2_with fail
      go_ret2
      exact ⟨0, false, rfl, .inr ⟨rfl, rfl, fun j h => hno.out j (by omega) h⟩, hu⟩
    | succ k =>
      rw [show ((k + 1 : Nat) : Int) - 1 = (k : Int) by omega]
      have hlt : k < 941 := by omega
      obtain ⟨x, hx⟩ : ∃ x, fld S.data.toList 15 k 0 5 = x := ⟨_, rfl⟩
      obtain ⟨y, hy⟩ : ∃ y, fld S.data.toList 15 k 5 5 = y := ⟨_, rfl⟩
      obtain ⟨z, hz⟩ : ∃ z, fld S.data.toList 15 k 10 5 = z := ⟨_, rfl⟩
      have m1 := N1.out k hlt
      have m2 := N2.out k hlt
      have m3 := N3.out k hlt
      have hkey : key S.data.toList 15 k = x := by rw [key_fld, hx]
      rw [hx] at m1
      rw [hy] at m2
      rw [hz] at m3
      have HX := Lib.hid hkey
      have HY := Lib.hid hy
      have HZ := Lib.hid hz
      clear hx hy hz hkey N1 N2 N3
      by_cases hxa : x = a
      · subst hxa
        by_cases hyb : y = b
        · subst hyb
          go_wp2_with fail
          refine (m1 _).mono ?_
          rintro e w2 ⟨rfl, rfl⟩
          go_wp2_with fail
          refine (m2 _).mono ?_
          rintro e w2 ⟨rfl, rfl⟩
          go_wp2_with fail
          refine (m3 _).mono ?_
          rintro e w2 ⟨rfl, rfl⟩
          go_wp2_with fail
          go_ret2
          exact ⟨z, true, rfl, .inl ⟨rfl, k, hlt, HX.out, HY.out, HZ.out⟩, hu⟩
        · have hne : ((y : Int) == (b : Int)) = false := by simp; omega
          go_wp2_with fail
          refine (m1 _).mono ?_
          rintro e w2 ⟨rfl, rfl⟩
          go_wp2_with fail
          refine (m2 _).mono ?_
          rintro e w2 ⟨rfl, rfl⟩
          go_wp2_with fail
          go_roundw
          case rel => exact ⟨k, by omega, by go_num, Lib.hid (fun j h1 h2 h3 => by
            by_cases e : j = k
            · subst e; rw [HY.out]; exact hyb
            · exact hno.out j (by omega) h2 h3), by first | rfl | trivial⟩
          case measure => simp only [intOf]; omega
      · have hne : ((x : Int) == (a : Int)) = false := by simp; omega
        go_wp2_with fail
        refine (m1 _).mono ?_
        rintro e w2 ⟨rfl, rfl⟩
        go_wp2_with fail
        go_ret2
        exact ⟨0, false, rfl, .inr ⟨rfl, rfl, fun j h h3 => by
          by_cases hj : j ≤ k
          · have e1 := HM.out j k hj hlt
            have e2 := HM.out k (r - 1) (by omega) (by omega)
            have e3 := HL.out.2.1 (by omega)
            have e4 := HX.out
            omega
          · exact hno.out j (by omega) h h3⟩, hu⟩

end Go.Proofs.Ytlneepmpieikeaa
