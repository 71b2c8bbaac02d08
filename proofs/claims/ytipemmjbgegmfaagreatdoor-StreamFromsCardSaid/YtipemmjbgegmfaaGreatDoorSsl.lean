/- Ssl: one text of Ssa Ssb Ssc Ssd Sse Ssf. -/
import Derived.Test.YtipemmjbgegmfaaGreatDoorBas
import Derived.Test.YtipemmjbgegmfaaGreatDoorOrd

/- slices.SortStableFunc of a part of the call's own row: what stands, what is swapped. -/
namespace Go.Proofs.YtipemmjbgegmfaaGreatDoor
open Go.RowKit

/-- The call's own row holds P, l, S, one behind the other, all of them below N; what stood in W stands. -/
structure Pat (W : World) (g N D : Nat) (P S : List Nat) (l : List Nat) (w : World) : Prop where
  own : w.ownsRow W.heap.size 3 1 (.slice (some ⟨g, 0, none⟩) N D) N (ks (P ++ l ++ S))
  up : Up W w
  pos : W.heap.size ≤ g
  low : ∀ x ∈ P ++ l ++ S, x < N

variable {W w w' : World} {g N D : Nat} {P S : List Nat}
theorem Pat.go {l : List Nat} (h : Pat W g N D P S l w) (hu : Up w w') : Pat W g N D P S l w' := ⟨own_up h.own hu, h.up.trans hu, h.pos, h.low⟩
theorem Pat.lt {l : List Nat} (h : Pat W g N D P S l w) : P.length + l.length ≤ N := by
  have := h.own.1
  rw [ks_len] at this
  simp at this
  omega
theorem Pat.is {l : List Nat} (h : Pat W g N D P S l w) {x : Nat} (hx : x ∈ l) : x < N := h.low x (List.mem_append_left _ (List.mem_append_right _ hx))
theorem Pat.cell {U T : List Nat} {x : Nat} (h : Pat W g N D P S (U ++ x :: T) w) {i : Nat} (hi : i = P.length + U.length) : w.cell? ⟨g, i, none⟩ = some (.int .i64 (x : Int)) ∧ w.frozen? ⟨g, i, none⟩ = false := by
  subst hi
  refine ⟨?_, h.own.frozenAt _⟩
  have := h.own
  rw [show P ++ (U ++ x :: T) ++ S = (P ++ U) ++ x :: (T ++ S) by simp] at this
  exact owk_mid this (by simp)
theorem Pat.put {U T : List Nat} {x : Nat} (h : Pat W g N D P S (U ++ x :: T) w) {i : Nat} (hi : i = P.length + U.length) (z : Nat) (hz : z < N) : Pat W g N D P S (U ++ z :: T) (w.setCell ⟨g, i, none⟩ (.int .i64 (z : Int))) := by
  subst hi
  refine ⟨?_, Up.setCell h.up h.pos _ _, h.pos, fun y hy => ?_⟩
  · have := owk_bump h.own (P.length + U.length) z
    rw [show P ++ (U ++ x :: T) ++ S = (P ++ U) ++ x :: (T ++ S) by simp, List.set_append_right _ _ (by simp), show P.length + U.length - (P ++ U).length = 0 by simp, List.set_cons_zero] at this
    simpa using this
  · have := h.low y
    simp only [List.mem_append, List.mem_cons] at hy this
    rcases hy with (h1 | h1 | rfl | h1) | h1
    · exact this (.inl (.inl h1))
    · exact this (.inl (.inr (.inl h1)))
    · exact hz
    · exact this (.inl (.inr (.inr (.inr h1))))
    · exact this (.inr h1)
/-- Two change places. -/
theorem Pat.swap {U V T : List Nat} {x y : Nat} (h : Pat W g N D P S (U ++ x :: (V ++ y :: T)) w) {i j : Nat} (hi : i = P.length + U.length) (hj : j = P.length + U.length + 1 + V.length) :
    Pat W g N D P S (U ++ y :: (V ++ x :: T)) ((w.setCell ⟨g, i, none⟩ (.int .i64 (y : Int))).setCell ⟨g, j, none⟩ (.int .i64 (x : Int))) := by
  have h1 := h.put hi y (h.is (by simp))
  rw [show U ++ y :: (V ++ y :: T) = (U ++ y :: V) ++ y :: T by simp] at h1
  have h2 := h1.put (i := j) (by simp; omega) x (h.is (by simp))
  rwa [show (U ++ y :: V) ++ x :: T = U ++ y :: (V ++ x :: T) by simp] at h2
/-- The same, the one behind laid first. -/
theorem Pat.swap2 {U V T : List Nat} {x y : Nat} (h : Pat W g N D P S (U ++ x :: (V ++ y :: T)) w) {i j : Nat} (hi : i = P.length + U.length) (hj : j = P.length + U.length + 1 + V.length) :
    Pat W g N D P S (U ++ y :: (V ++ x :: T)) ((w.setCell ⟨g, j, none⟩ (.int .i64 (x : Int))).setCell ⟨g, i, none⟩ (.int .i64 (y : Int))) := by
  have hx := h.is (x := x) (by simp)
  have hy := h.is (x := y) (by simp)
  rw [show U ++ x :: (V ++ y :: T) = (U ++ x :: V) ++ y :: T by simp] at h
  have h1 := h.put (i := j) (by simp; omega) x hx
  rw [show (U ++ x :: V) ++ x :: T = U ++ x :: (V ++ x :: T) by simp] at h1
  exact h1.put hi y hy
theorem Pat.two {U V T : List Nat} {x y : Nat} (h : Pat W g N D P S (U ++ x :: (V ++ y :: T)) w) {i j : Nat} (hi : i = P.length + U.length) (hj : j = P.length + U.length + 1 + V.length) :
    (w.cell? ⟨g, i, none⟩ = some (.int .i64 (x : Int)) ∧ w.frozen? ⟨g, i, none⟩ = false) ∧ (w.cell? ⟨g, j, none⟩ = some (.int .i64 (y : Int)) ∧ w.frozen? ⟨g, j, none⟩ = false) := by
  refine ⟨h.cell hi, ?_⟩
  rw [show U ++ x :: (V ++ y :: T) = (U ++ x :: V) ++ y :: T by simp] at h
  exact h.cell (by simp; omega)

end Go.Proofs.YtipemmjbgegmfaaGreatDoor

/- slices.SortStableFunc: two runs of one length change places. -/
namespace Go.Proofs.YtipemmjbgegmfaaGreatDoor
open Go.RowKit
variable {W : World} {g N D : Nat} {P S : List Nat}

set_option maxRecDepth 100000 in
theorem swap_range (X A Y B Z : List Nat) (o len cap a b n : Nat) (cv : Value) (w : World) (h : Pat W g N D P S (X ++ (A ++ (Y ++ (B ++ Z)))) w) (ho : o = P.length) (hlen : len = (X ++ (A ++ (Y ++ (B ++ Z)))).length)
    (ha : a = X.length) (hA : A.length = n) (hB : B.length = n) (hb : b = X.length + n + Y.length) (hN : N ≤ 4611686018427387904) :
    Calls Tryz.prog 133 #[.slice (some ⟨g, o, none⟩) len cap, .int .i64 (a : Int), .int .i64 (b : Int), .int .i64 (n : Int), cv] w fun e w' => e = .returned (.tuple #[]) ∧ Pat W g N D P S (X ++ (B ++ (Y ++ (A ++ Z)))) w' := by
  have hlt := h.lt
  rw [← hlen] at hlt
  have hl2 : b + n ≤ len := by rw [hlen]; simp; omega
  have hl3 : a + n ≤ b := by omega
  have H := Lib.hid h
  have Ho := Lib.hid ho
  have Ha := Lib.hid ha
  have Hb := Lib.hid hb
  have HA := Lib.hid hA
  have HB := Lib.hid hB
  have hoN : o + len ≤ 4611686018427387904 := by omega
  clear h ho ha hb hA hB hlen
  go_enter Tryz.func133, Tryz.ntmps133
  go_wp2_with fail
  go_loopw [10] (fun i wr => ∃ (k : Nat) (A1 A2 B1 B2 : List Nat), k ≤ n ∧ i = .int .i64 (k : Int) ∧ Hid (A = A1 ++ A2) ∧ Hid (B = B1 ++ B2) ∧ Hid (A1.length = k) ∧ Hid (B1.length = k) ∧ Hid (Pat W g N D P S (X ++ (B1 ++ (A2 ++ (Y ++ (A1 ++ (B2 ++ Z)))))) wr)) (fun i _ => n - (intOf i).toNat)
  case atStart => exact ⟨0, [], A, [], B, Nat.zero_le _, rfl, Lib.hid rfl, Lib.hid rfl, Lib.hid rfl, Lib.hid rfl, H⟩
  case round =>
    obtain ⟨k, A1, A2, B1, B2, hk, rfl, eA, eB, hA1, hB1, hat⟩ := hrel
    clear H
    by_cases hkn : k < n
    · obtain ⟨x, A3, rfl⟩ : ∃ x A3, A2 = x :: A3 := by
        cases A2 with
        | nil => have h1 := HA.out; have h2 := hA1.out; rw [eA.out] at h1; simp at h1; omega
        | cons x A3 => exact ⟨x, A3, rfl⟩
      obtain ⟨y, B3, rfl⟩ : ∃ y B3, B2 = y :: B3 := by
        cases B2 with
        | nil => have h1 := HB.out; have h2 := hB1.out; rw [eB.out] at h1; simp at h1; omega
        | cons y B3 => exact ⟨y, B3, rfl⟩
      have h0 := hat.out
      rw [show X ++ (B1 ++ (x :: A3 ++ (Y ++ (A1 ++ (y :: B3 ++ Z))))) = (X ++ B1) ++ x :: ((A3 ++ Y ++ A1) ++ y :: (B3 ++ Z)) by simp] at h0
      have i1 : o + (a + k) = P.length + (X ++ B1).length := by rw [Ho.out, Ha.out, List.length_append, hB1.out]
      have hA3 : A3.length + 1 + k = n := by have h1 := HA.out; have h2 := hA1.out; rw [eA.out] at h1; simp at h1; omega
      have i2 : o + (b + k) = P.length + (X ++ B1).length + 1 + (A3 ++ Y ++ A1).length := by
        have h2 := hA1.out
        have h3 := hB1.out
        rw [Ho.out, Hb.out]
        simp only [List.length_append]
        omega
      obtain ⟨⟨c1, f1⟩, c2, f2⟩ := h0.two i1 i2
      have HS := Lib.hid (h0.swap i1 i2)
      clear h0 i1 i2 hat
      go_wp2_with fail
      go_region
      go_wp2_with fail
      go_roundw
      case rel =>
        refine ⟨k + 1, A1 ++ [x], A3, B1 ++ [y], B3, by omega, by go_num, Lib.hid (by rw [eA.out]; simp), Lib.hid (by rw [eB.out]; simp), Lib.hid (by rw [List.length_append, hA1.out]; rfl), Lib.hid (by rw [List.length_append, hB1.out]; rfl), Lib.hid ?_⟩
        have := HS.out.go ((Up.refl _).drew)
        simpa using this
      case measure => simp [intOf]; omega
    · obtain rfl : k = n := by omega
      have h0 := hat.out
      have e1 : A2 = [] := List.eq_nil_of_length_eq_zero (by have h1 := HA.out; have h2 := hA1.out; rw [eA.out] at h1; simp at h1; omega)
      have e2 : B2 = [] := List.eq_nil_of_length_eq_zero (by have h1 := HB.out; have h2 := hB1.out; rw [eB.out] at h1; simp at h1; omega)
      have eA := eA.out
      have eB := eB.out
      subst e1 e2
      rw [List.append_nil] at eA eB
      subst eA eB
      clear hat
      have H2 := Lib.hid h0
      clear h0
      go_wp2_with fail
      go_end0
      exact ⟨rfl, by simpa using H2.out⟩

end Go.Proofs.YtipemmjbgegmfaaGreatDoor

/- slices.SortStableFunc: two runs, one behind the other, change places. -/
namespace Go.Proofs.YtipemmjbgegmfaaGreatDoor
open Go.RowKit
variable {W : World} {g N D : Nat} {P S : List Nat}

set_option maxRecDepth 100000 in
set_option maxHeartbeats 1600000 in
theorem rotate_run (X A B Z : List Nat) (o len cap a m b : Nat) (cv : Value) (w : World) (h : Pat W g N D P S (X ++ (A ++ (B ++ Z))) w) (ho : o = P.length) (hlen : len = (X ++ (A ++ (B ++ Z))).length)
    (ha : a = X.length) (hm : m = a + A.length) (hb : b = m + B.length) (hA : 0 < A.length) (hB : 0 < B.length) (hN : N ≤ 4611686018427387904) :
    Calls Tryz.prog 132 #[.slice (some ⟨g, o, none⟩) len cap, .int .i64 (a : Int), .int .i64 (m : Int), .int .i64 (b : Int), cv] w fun e w' => e = .returned (.tuple #[]) ∧ Pat W g N D P S (X ++ (B ++ (A ++ Z))) w' := by
  have hlt := h.lt
  have hll : len = X.length + A.length + B.length + Z.length := by rw [hlen]; simp; omega
  have hlN : P.length + len ≤ N := by rw [hlen]; exact hlt
  have H := Lib.hid h
  have e1 : (m : Int) - (a : Int) = (A.length : Int) := by omega
  have e2 : (b : Int) - (m : Int) = (B.length : Int) := by omega
  have hmN : m ≤ N := by omega
  have hbN : b ≤ N := by omega
  have haN : a ≤ m := by omega
  have hmb : m ≤ b := by omega
  have Hm := Lib.hid (show m = X.length + A.length by omega)
  have HL := Lib.hid hll
  have Ho := Lib.hid ho
  clear h hlt hlen ha hm hb hll ho
  go_enter Tryz.func132, Tryz.ntmps132
  go_wp2_with fail
  go_loopw [10, 11] (fun i j wr => ∃ (X' A' B' Z' : List Nat), i = .int .i64 (A'.length : Int) ∧ j = .int .i64 (B'.length : Int) ∧ 0 < A'.length ∧ 0 < B'.length ∧ Hid (m = X'.length + A'.length) ∧ Hid (len = X'.length + A'.length + B'.length + Z'.length) ∧ Hid (X' ++ (B' ++ (A' ++ Z')) = X ++ (B ++ (A ++ Z))) ∧ Hid (Pat W g N D P S (X' ++ (A' ++ (B' ++ Z'))) wr)) (fun i j _ => (intOf i).toNat + (intOf j).toNat)
  case atStart => exact ⟨X, A, B, Z, rfl, rfl, hA, hB, Hm, HL, Lib.hid rfl, H⟩
  case round =>
    obtain ⟨X', A', B', Z', rfl, rfl, hA', hB', hm', hl', hg, hat⟩ := hrel
    clear H HL Hm hA hB e1 e2
    have hgo := hg.out
    have hm2 := hm'.out
    have hl2 := hl'.out
    obtain ⟨i, hi⟩ : ∃ i, A'.length = i := ⟨_, rfl⟩
    obtain ⟨j, hj⟩ : ∃ j, B'.length = j := ⟨_, rfl⟩
    rw [hi] at hA' hm2 hl2 ⊢
    rw [hj] at hB' hl2 ⊢
    have e3 : (m : Int) - (i : Int) = (X'.length : Int) := by omega
    have hxm : X'.length ≤ m := by omega
    have hiN : i ≤ N := by omega
    have hjN : j ≤ N := by omega
    by_cases hij : i = j
    · have hne : ((i : Int) != (j : Int)) = false := by simp [hij]
      have C := Lib.hid (fun w' (hat : Pat W g N D P S (X' ++ (A' ++ ([] ++ (B' ++ Z')))) w') => swap_range X' A' [] B' Z' o len cap X'.length m i cv w' hat Ho.out (by simp; omega) rfl hi (by omega) (by simp; omega) hN)
      have HG := Lib.hid (show X' ++ (B' ++ ([] ++ (A' ++ Z'))) = X ++ (B ++ (A ++ Z)) by rw [List.nil_append]; exact hgo)
      clear hg hgo hm' hm2 hl' hl2 hi hj hiN hjN
      subst hij
      go_wp2_with fail
      refine (C.out _ (by have := hat.out; simpa using this)).mono ?_
      rintro e w2 ⟨rfl, h2⟩
      rw [HG.out] at h2
      go_wp2_with fail
      go_end0
      exact ⟨rfl, h2⟩
    by_cases hgt : j < i
    · have hne : ((i : Int) != (j : Int)) = true := by simp; omega
      obtain ⟨A1, A2, rfl, hA1, hA2⟩ : ∃ A1 A2, A' = A1 ++ A2 ∧ A1.length = j ∧ A2.length = i - j := ⟨A'.take j, A'.drop j, (List.take_append_drop _ _).symm, by rw [List.length_take]; omega, by rw [List.length_drop]; omega⟩
      have e4 : (i : Int) - (j : Int) = (A2.length : Int) := by omega
      have C := Lib.hid (fun w' (hat : Pat W g N D P S (X' ++ (A1 ++ (A2 ++ (B' ++ Z')))) w') => swap_range X' A1 A2 B' Z' o len cap X'.length m j cv w' hat Ho.out (by simp; omega) rfl hA1 hj (by omega) hN)
      have HG := Lib.hid hgo
      have HT := Lib.hid hat.out
      have HM := Lib.hid hm2
      have HL := Lib.hid hl2
      have HI := Lib.hid hi
      have HJ := Lib.hid hj
      have HA1 := Lib.hid hA1
      have HA2 := Lib.hid hA2
      clear hg hgo hat hm2 hl2 hi hj hA1 hA2 hm' hl'
      go_wp2_with fail
      refine (C.out _ (by have := HT.out; simpa using this)).mono ?_
      rintro e w2 ⟨rfl, h2⟩
      have H2 := Lib.hid h2
      clear h2
      go_wp2_with fail
      go_roundw
      case rel => exact ⟨X' ++ B', A2, A1, Z', rfl, by rw [HA1.out], (by have := HA2.out; omega), (by have := HA1.out; omega), Lib.hid (by have h1 := HM.out; have h2 := HA2.out; have h3 := HJ.out; simp; omega), Lib.hid (by have h1 := HL.out; have h2 := HA2.out; have h3 := HA1.out; have h4 := HJ.out; simp; omega), Lib.hid (by rw [← HG.out]; simp), Lib.hid (by have := H2.out; simpa using this)⟩
      case measure => simp [intOf]; omega
    · have hne : ((i : Int) != (j : Int)) = true := by simp; omega
      obtain ⟨B1, B2, rfl, hB1, hB2⟩ : ∃ B1 B2, B' = B1 ++ B2 ∧ B1.length = j - i ∧ B2.length = i := ⟨B'.take (j - i), B'.drop (j - i), (List.take_append_drop _ _).symm, by rw [List.length_take]; omega, by rw [List.length_drop]; omega⟩
      have e4 : (j : Int) - (i : Int) = (B1.length : Int) := by omega
      have e5 : (m : Int) + (j : Int) - (i : Int) = ((m + j - i : Nat) : Int) := by omega
      have hmj : m + j - i ≤ N := by omega
      have C := Lib.hid (fun w' (hat : Pat W g N D P S (X' ++ (A' ++ (B1 ++ (B2 ++ Z')))) w') => swap_range X' A' B1 B2 Z' o len cap X'.length (m + j - i) i cv w' hat Ho.out (by simp; omega) rfl hi hB2 (by omega) hN)
      have HG := Lib.hid hgo
      have HT := Lib.hid hat.out
      have HM := Lib.hid hm2
      have HL := Lib.hid hl2
      have HI := Lib.hid hi
      have HJ := Lib.hid hj
      have HA1 := Lib.hid hB1
      have HA2 := Lib.hid hB2
      clear hg hgo hat hm2 hl2 hi hj hB1 hB2 hm' hl'
      generalize m + j - i = q at *
      go_wp2_with fail
      refine (C.out _ (by have := HT.out; simpa using this)).mono ?_
      rintro e w2 ⟨rfl, h2⟩
      have H2 := Lib.hid h2
      clear h2
      go_wp2_with fail
      go_roundw
      case rel => exact ⟨X', B2, B1, A' ++ Z', by rw [HA2.out], rfl, (by have := HA2.out; omega), (by have := HA1.out; omega), Lib.hid (by have h1 := HM.out; have h2 := HA2.out; omega), Lib.hid (by have h1 := HL.out; have h2 := HA2.out; have h3 := HA1.out; have h4 := HI.out; simp; omega), Lib.hid (by rw [← HG.out]; simp), Lib.hid (by have := H2.out; simpa using this)⟩
      case measure => simp [intOf]; omega

end Go.Proofs.YtipemmjbgegmfaaGreatDoor

/- slices.SortStableFunc: a run is sorted by insertion. -/
namespace Go.Proofs.YtipemmjbgegmfaaGreatDoor
open Go.RowKit Go.Proofs.YtipemmjbgegmfaaGreatDoor.Stb

/-- The comparison: below 0 where the first one's class is less. -/
structure CmpOk (c : FuncId) (cb : Value) (W : World) (N : Nat) (cls : Nat → Nat) (r : Nat → Nat → Int) : Prop where
  enter : ∀ (args : Array Value) (w : World), (callFunc c args).run Tryz.prog w = .ok (.enter c args) w
  call : ∀ (x y : Nat) (w : World), x < N → y < N → Up W w → Calls Tryz.prog c #[.int .i64 (x : Int), .int .i64 (y : Int), cb] w fun e w' => e = .returned (.int .i64 (r x y)) ∧ Up w w'
  less : ∀ x y : Nat, r x y < 0 ↔ cls x < cls y

variable {W : World} {g N D : Nat} {P S : List Nat} {c : FuncId} {cb : Value} {cls : Nat → Nat} {r : Nat → Nat → Int}

set_option maxRecDepth 100000 in
set_option maxHeartbeats 1600000 in
theorem insertion_run (K : CmpOk c cb W N cls r) (X R Z : List Nat) (o len cap a b : Nat) (w : World) (h : Pat W g N D P S (X ++ (R ++ Z)) w) (ho : o = P.length) (hlen : len = (X ++ (R ++ Z)).length)
    (ha : a = X.length) (hb : b = a + R.length) (hN : N ≤ 4611686018427387904) :
    Calls Tryz.prog 125 #[.slice (some ⟨g, o, none⟩) len cap, .int .i64 (a : Int), .int .i64 (b : Int), .func (.func c) #[] #[cb]] w fun e w' => e = .returned (.tuple #[]) ∧ ∃ R', srt cls R' ∧ Arr cls R' R ∧ Pat W g N D P S (X ++ (R' ++ Z)) w' := by
  have hlt := h.lt
  have hlN : P.length + len ≤ N := by rw [hlen]; exact hlt
  have hll : len = a + R.length + Z.length := by rw [hlen, ha]; simp; omega
  have hoN : o + len ≤ 4611686018427387904 := by omega
  have hbl : b ≤ len := by omega
  have H := Lib.hid h
  have Ho := Lib.hid ho
  have Ha := Lib.hid ha
  have Hb := Lib.hid hb
  have HE := Lib.hid K.enter
  have HC := Lib.hid K.call
  have HL := Lib.hid K.less
  cases R with
  | nil =>
    have hba : (b : Int) = (a : Int) := by simp at hb; omega
    clear h ho ha hb hlen hll hlN hlt K
    go_enter Tryz.func125, Tryz.ntmps125
    go_wp2_with fail
    go_loopw [8] (fun i wr => i = .int .i64 ((a : Int) + 1) ∧ Hid (Pat W g N D P S (X ++ ([] ++ Z)) wr)) (fun _ _ => 0)
    case atStart => exact ⟨rfl, H⟩
    case round =>
      obtain ⟨rfl, hat⟩ := hrel
      go_wp2_with fail
      go_end0
      exact ⟨rfl, [], srt_nil, Arr.refl _ _, hat.out⟩
  | cons x0 R =>
    have hab : a + 1 ≤ b := by simp at hb; omega
    clear h ho ha hb hlen hll hlN hlt K
    go_enter Tryz.func125, Tryz.ntmps125
    go_wp2_with fail
    go_loopw [8] (fun i wr => ∃ (k : Nat) (R1 R2 R0 : List Nat), i = .int .i64 (k : Int) ∧ a < k ∧ k ≤ b ∧ Hid (k = a + R1.length) ∧ Hid (x0 :: R = R0 ++ R2) ∧ Hid (Arr cls R1 R0) ∧ Hid (srt cls R1) ∧ Hid (Pat W g N D P S (X ++ (R1 ++ (R2 ++ Z))) wr)) (fun i _ => b - (intOf i).toNat)
    case atStart => exact ⟨a + 1, [x0], R, [x0], by go_num, by omega, hab, Lib.hid rfl, Lib.hid rfl, Lib.hid (Arr.refl _ _), Lib.hid (srt_one _), H⟩
    case round =>
      obtain ⟨k, R1, R2, R0, rfl, hak, hkb, hk, hR, hArr, hsrt, hat⟩ := hrel
      clear H
      by_cases hkl : k < b
      · obtain ⟨x, R3, rfl⟩ : ∃ x R3, R2 = x :: R3 := by
          cases R2 with
          | nil => have h1 := hR.out; have h2 := hArr.out.len; have h3 := Hb.out; have h4 := hk.out; rw [List.append_nil] at h1; rw [h1] at h3; omega
          | cons x R3 => exact ⟨x, R3, rfl⟩
        go_wp2_with fail
        rename World => wo
        go_loopw [9] (fun j wr => ∃ (q : Nat) (U V : List Nat), j = .int .i64 (q : Int) ∧ a ≤ q ∧ q ≤ k ∧ Hid (q = a + U.length) ∧ Hid (R1 = U ++ V) ∧ Hid (∀ y ∈ V, cls x < cls y) ∧ Hid (Pat W g N D P S (X ++ (U ++ x :: (V ++ (R3 ++ Z)))) wr)) (fun j _ => (intOf j).toNat)
        case atStart => exact ⟨k, R1, [], rfl, by omega, Nat.le_refl _, hk, Lib.hid (List.append_nil _).symm, Lib.hid (fun y hy => by cases hy), by simpa using hat⟩
        case round =>
          obtain ⟨q, U, V, rfl, haq, hqk, hq, hUV, hV, hat⟩ := hrel
          by_cases hqa : a < q
          · obtain ⟨U1, y, rfl⟩ : ∃ U1 y, U = U1 ++ [y] := by
              have h1 := hq.out
              have h2 : U ≠ [] := fun e => by rw [e] at h1; simp at h1; omega
              exact ⟨U.dropLast, U.getLast h2, (List.dropLast_concat_getLast h2).symm⟩
            obtain ⟨qp, rfl⟩ : ∃ qp, q = qp + 1 := ⟨q - 1, by omega⟩
            have hqp : qp = a + U1.length := by have h1 := hq.out; simp at h1; omega
            have i1 : o + qp = P.length + (X ++ U1).length := by rw [Ho.out, hqp, Ha.out, List.length_append]
            have i2 : o + (qp + 1) = P.length + (X ++ U1).length + 1 + ([] : List Nat).length := by rw [List.length_nil]; omega
            have AT := Lib.hid (fun w' (u : Up wr w') => show Pat W g N D P S ((X ++ U1) ++ y :: ([] ++ x :: (V ++ (R3 ++ Z)))) w' from by
              have := hat.out.go u
              simpa using this)
            have CF := Lib.hid (fun w' (u : Up wr w') => show w'.cell? ⟨g, o + (qp + 1), none⟩ = some (.int .i64 (x : Int)) ∧ w'.cell? ⟨g, o + qp, none⟩ = some (.int .i64 (y : Int)) from by
              obtain ⟨⟨k1, _⟩, k2, _⟩ := (AT.out w' u).two i1 i2
              exact ⟨k2, k1⟩)
            have C2 := Lib.hid (fun w' (u : Up wr w') => (AT.out w' u).two i1 i2)
            have S2 := Lib.hid (fun w' (u : Up wr w') => (AT.out w' u).swap2 i1 i2)
            have hql : qp + 1 < len := by omega
            have hqa2 : a ≤ qp := by omega
            have hgt : (a : Int) < (qp : Int) + 1 := by omega
            have hgd : decide ((a : Int) < (qp : Int) + 1) = true := decide_eq_true hgt
            have hb1 : (0 : Int) ≤ (qp : Int) + 1 := by omega
            have hb2 : (qp : Int) + 1 < (len : Int) := by omega
            have hb3 : qp < len := by omega
            have hwq : IntKind.i64.wrap (qp : Int) = (qp : Int) := IntWalk.i64_in _ (by omega)
            have hen := HE.out
            have HQ := Lib.hid hqp
            clear i1 i2 hq hqp
            go_wp2_with fail
            refine wp_region_pi [(0, false), (1, false), (2, false), (3, false), (4, false), (5, false), (6, false), (7, false), (8, false), (9, false), (10, false), (11, false), (12, false), (13, false), (14, true), (15, false), (16, false)] (by kernel_rfl) (by kernel_rfl) (fun _ _ d _ _ h => by cases d <;> exact h) ?_
            ((with_reducible apply pi_take); (focus exact rfl); (focus exact rfl); (focus (intro w' u1; obtain ⟨cc1, cc2⟩ := CF.out w' (Up.of_drew u1); go_simp; try with_reducible rfl; done)); dsimp only [Act.put]; simp only [List.setIfInBounds_toArray, List.set_cons_succ, List.set_cons_zero])
            ((with_reducible apply pi_take); (focus exact rfl); (focus exact rfl); (focus (intro w' u1; obtain ⟨cc1, cc2⟩ := CF.out w' (Up.of_drew u1); go_simp; try with_reducible rfl; done)); dsimp only [Act.put]; simp only [List.setIfInBounds_toArray, List.set_cons_succ, List.set_cons_zero])
            ((with_reducible apply pi_take); (focus exact rfl); (focus exact rfl); (focus (intro w' u1; obtain ⟨cc1, cc2⟩ := CF.out w' (Up.of_drew u1); go_simp; try with_reducible rfl; done)); dsimp only [Act.put]; simp only [List.setIfInBounds_toArray, List.set_cons_succ, List.set_cons_zero])
            ((with_reducible apply pi_take); (focus exact rfl); (focus exact rfl); (focus (intro w' u1; obtain ⟨cc1, cc2⟩ := CF.out w' (Up.of_drew u1); go_simp; try with_reducible rfl; done)); dsimp only [Act.put]; simp only [List.setIfInBounds_toArray, List.set_cons_succ, List.set_cons_zero])
            ((with_reducible apply pi_take); (focus exact rfl); (focus exact rfl); (focus (intro w' u1; obtain ⟨cc1, cc2⟩ := CF.out w' (Up.of_drew u1); go_simp; try with_reducible rfl; done)); dsimp only [Act.put]; simp only [List.setIfInBounds_toArray, List.set_cons_succ, List.set_cons_zero])
            ((with_reducible apply pi_take); (focus exact rfl); (focus exact rfl); (focus (intro w' u1; obtain ⟨cc1, cc2⟩ := CF.out w' (Up.of_drew u1); go_simp; try with_reducible rfl; done)); dsimp only [Act.put]; simp only [List.setIfInBounds_toArray, List.set_cons_succ, List.set_cons_zero])
            ((with_reducible apply pi_take); (focus exact rfl); (focus exact rfl); (focus (intro w' u1; obtain ⟨cc1, cc2⟩ := CF.out w' (Up.of_drew u1); go_simp; try with_reducible rfl; done)); dsimp only [Act.put]; simp only [List.setIfInBounds_toArray, List.set_cons_succ, List.set_cons_zero])
            ((with_reducible apply pi_take); (focus exact rfl); (focus exact rfl); (focus (intro w' u1; obtain ⟨cc1, cc2⟩ := CF.out w' (Up.of_drew u1); go_simp; try with_reducible rfl; done)); dsimp only [Act.put]; simp only [List.setIfInBounds_toArray, List.set_cons_succ, List.set_cons_zero])
            ((with_reducible apply pi_take); (focus exact rfl); (focus exact rfl); (focus (intro w' u1; obtain ⟨cc1, cc2⟩ := CF.out w' (Up.of_drew u1); go_simp; try with_reducible rfl; done)); dsimp only [Act.put]; simp only [List.setIfInBounds_toArray, List.set_cons_succ, List.set_cons_zero])
            ((with_reducible apply pi_take); (focus exact rfl); (focus exact rfl); (focus (intro w' u1; obtain ⟨cc1, cc2⟩ := CF.out w' (Up.of_drew u1); go_simp; try with_reducible rfl; done)); dsimp only [Act.put]; simp only [List.setIfInBounds_toArray, List.set_cons_succ, List.set_cons_zero])
            ((with_reducible apply pi_take); (focus exact rfl); (focus exact rfl); (focus (intro w' u1; obtain ⟨cc1, cc2⟩ := CF.out w' (Up.of_drew u1); go_simp; try with_reducible rfl; done)); dsimp only [Act.put]; simp only [List.setIfInBounds_toArray, List.set_cons_succ, List.set_cons_zero])
            ((with_reducible apply pi_take); (focus exact rfl); (focus exact rfl); (focus (intro w' u1; obtain ⟨cc1, cc2⟩ := CF.out w' (Up.of_drew u1); go_simp; try with_reducible rfl; done)); dsimp only [Act.put]; simp only [List.setIfInBounds_toArray, List.set_cons_succ, List.set_cons_zero])
            ((with_reducible apply pi_take); (focus exact rfl); (focus exact rfl); (focus (intro w' u1; obtain ⟨cc1, cc2⟩ := CF.out w' (Up.of_drew u1); go_simp; try with_reducible rfl; done)); dsimp only [Act.put]; simp only [List.setIfInBounds_toArray, List.set_cons_succ, List.set_cons_zero])
            ((with_reducible apply pi_take); (focus exact rfl); (focus exact rfl); (focus (intro w' u1; obtain ⟨cc1, cc2⟩ := CF.out w' (Up.of_drew u1); go_simp; try with_reducible rfl; done)); dsimp only [Act.put]; simp only [List.setIfInBounds_toArray, List.set_cons_succ, List.set_cons_zero])
            refine pi_make rfl rfl (fun K hK => ?_)
            go_simp
            refine (HC.out x y _ (hat.out.is (by simp)) (hat.out.is (by simp)) (hat.out.up.trans ((Up.refl _).drew))).mono ?_
            rintro e w3 ⟨rfl, hz⟩
            have hu3 : Up wr w3 := Up.of_drew hz
            refine hK.out _ _ hz ?_
            clear hK K hz CF hen
            by_cases hless : cls x < cls y
            · have hr0 : r x y < 0 := (HL.out x y).2 hless
              have hr1 : decide (r x y < 0) = true := decide_eq_true hr0
              ((with_reducible apply pi_take); (focus exact rfl); (focus exact rfl); (focus (intro w' u1; go_simp; try with_reducible rfl; done)); dsimp only [Act.put]; simp only [List.setIfInBounds_toArray, List.set_cons_succ, List.set_cons_zero])
              ((with_reducible apply pi_take); (focus exact rfl); (focus exact rfl); (focus (intro w' u1; go_simp; try with_reducible rfl; done)); dsimp only [Act.put]; simp only [List.setIfInBounds_toArray, List.set_cons_succ, List.set_cons_zero])
              refine pi_done ?_
              obtain ⟨⟨k1, f1⟩, k2, f2⟩ := C2.out w3 hu3
              have HS := Lib.hid (S2.out w3 hu3)
              clear C2 S2 AT hu3
              go_wp2_with fail
              go_region
              go_wp2_with fail
              go_roundw
              case rel =>
                refine ⟨qp, U1, y :: V, by go_num, by omega, by omega, HQ, Lib.hid (by rw [hUV.out]; simp), Lib.hid (fun z hz => by rcases List.mem_cons.1 hz with rfl | hz; exact hless; exact hV.out z hz), Lib.hid ?_⟩
                have := HS.out.go ((Up.refl _).drew)
                simpa using this
              case measure => simp [intOf] <;> omega
            · have hr0 : ¬ r x y < 0 := fun h => hless ((HL.out x y).1 h)
              have hr1 : decide (r x y < 0) = false := decide_eq_false hr0
              ((with_reducible apply pi_take); (focus exact rfl); (focus exact rfl); (focus (intro w' u1; go_simp; try with_reducible rfl; done)); dsimp only [Act.put]; simp only [List.setIfInBounds_toArray, List.set_cons_succ, List.set_cons_zero])
              ((with_reducible apply pi_take); (focus exact rfl); (focus exact rfl); (focus (intro w' u1; go_simp; try with_reducible rfl; done)); dsimp only [Act.put]; simp only [List.setIfInBounds_toArray, List.set_cons_succ, List.set_cons_zero])
              refine pi_done ?_
              have HT := Lib.hid (AT.out w3 hu3)
              clear C2 S2 AT hu3
              go_wp2_with fail
              go_roundw
              case rel =>
                have hs := hsrt.out
                rw [hUV.out] at hs
                have hp := put_in hs hV.out (fun z hz => Nat.le_trans (last_most (srt_app.1 hs).1 z hz) (by omega))
                refine ⟨k + 1, (U1 ++ [y]) ++ x :: V, R3, R0 ++ [x], by go_num, by omega, by omega, Lib.hid ?_, Lib.hid (by rw [hR.out]; simp), Lib.hid (hp.2.trans ?_), Lib.hid hp.1, Lib.hid ?_⟩
                · have h1 := hk.out
                  rw [hUV.out] at h1
                  simp at h1 ⊢
                  omega
                · have h1 := hArr.out
                  rw [hUV.out] at h1
                  exact h1.app (Arr.refl _ _)
                · have := HT.out
                  simpa using this
              case measure => simp [intOf] <;> omega
          · obtain rfl : q = a := by omega
            have eU : U = [] := List.eq_nil_of_length_eq_zero (by have h1 := hq.out; omega)
            subst eU
            have hgd : decide ((q : Int) < (q : Int)) = false := decide_eq_false (by omega)
            go_wp2_with fail
            refine wp_region_pi [(0, false), (1, false), (2, false), (3, false), (4, false), (5, false), (6, false), (7, false), (8, false), (9, false), (10, false), (11, false), (12, false), (13, false), (14, true), (15, false), (16, false)] (by kernel_rfl) (by kernel_rfl) (fun _ _ d _ _ h => by cases d <;> exact h) ?_
            ((with_reducible apply pi_take); (focus exact rfl); (focus exact rfl); (focus (intro w' u1; go_simp; try with_reducible rfl; done)); dsimp only [Act.put]; simp only [List.setIfInBounds_toArray, List.set_cons_succ, List.set_cons_zero])
            ((with_reducible apply pi_take); (focus exact rfl); (focus exact rfl); (focus (intro w' u1; go_simp; try with_reducible rfl; done)); dsimp only [Act.put]; simp only [List.setIfInBounds_toArray, List.set_cons_succ, List.set_cons_zero])
            ((with_reducible apply pi_take); (focus exact rfl); (focus exact rfl); (focus (intro w' u1; go_simp; try with_reducible rfl; done)); dsimp only [Act.put]; simp only [List.setIfInBounds_toArray, List.set_cons_succ, List.set_cons_zero])
            ((with_reducible apply pi_take); (focus exact rfl); (focus exact rfl); (focus (intro w' u1; go_simp; try with_reducible rfl; done)); dsimp only [Act.put]; simp only [List.setIfInBounds_toArray, List.set_cons_succ, List.set_cons_zero])
            ((with_reducible apply pi_skip); (focus exact rfl); (focus exact rfl); dsimp only [Act.put]; simp only [List.setIfInBounds_toArray, List.set_cons_succ, List.set_cons_zero])
            ((with_reducible apply pi_skip); (focus exact rfl); (focus exact rfl); dsimp only [Act.put]; simp only [List.setIfInBounds_toArray, List.set_cons_succ, List.set_cons_zero])
            ((with_reducible apply pi_skip); (focus exact rfl); (focus exact rfl); dsimp only [Act.put]; simp only [List.setIfInBounds_toArray, List.set_cons_succ, List.set_cons_zero])
            ((with_reducible apply pi_skip); (focus exact rfl); (focus exact rfl); dsimp only [Act.put]; simp only [List.setIfInBounds_toArray, List.set_cons_succ, List.set_cons_zero])
            ((with_reducible apply pi_skip); (focus exact rfl); (focus exact rfl); dsimp only [Act.put]; simp only [List.setIfInBounds_toArray, List.set_cons_succ, List.set_cons_zero])
            ((with_reducible apply pi_skip); (focus exact rfl); (focus exact rfl); dsimp only [Act.put]; simp only [List.setIfInBounds_toArray, List.set_cons_succ, List.set_cons_zero])
            ((with_reducible apply pi_skip); (focus exact rfl); (focus exact rfl); dsimp only [Act.put]; simp only [List.setIfInBounds_toArray, List.set_cons_succ, List.set_cons_zero])
            ((with_reducible apply pi_skip); (focus exact rfl); (focus exact rfl); dsimp only [Act.put]; simp only [List.setIfInBounds_toArray, List.set_cons_succ, List.set_cons_zero])
            ((with_reducible apply pi_skip); (focus exact rfl); (focus exact rfl); dsimp only [Act.put]; simp only [List.setIfInBounds_toArray, List.set_cons_succ, List.set_cons_zero])
            ((with_reducible apply pi_skip); (focus exact rfl); (focus exact rfl); dsimp only [Act.put]; simp only [List.setIfInBounds_toArray, List.set_cons_succ, List.set_cons_zero])
            ((with_reducible apply pi_skip); (focus exact rfl); (focus exact rfl); dsimp only [Act.put]; simp only [List.setIfInBounds_toArray, List.set_cons_succ, List.set_cons_zero])
            ((with_reducible apply pi_skip); (focus exact rfl); (focus exact rfl); dsimp only [Act.put]; simp only [List.setIfInBounds_toArray, List.set_cons_succ, List.set_cons_zero])
            ((with_reducible apply pi_take); (focus exact rfl); (focus exact rfl); (focus (intro w' u1; go_simp; try with_reducible rfl; done)); dsimp only [Act.put]; simp only [List.setIfInBounds_toArray, List.set_cons_succ, List.set_cons_zero])
            refine pi_done ?_
            have HT := Lib.hid (hat.out.go ((Up.refl _).drew))
            go_wp2_with fail
            go_roundw
            case rel =>
              have hs := hsrt.out
              rw [hUV.out] at hs
              have hp := put_in hs hV.out (fun z hz => by cases hz)
              refine ⟨k + 1, [] ++ x :: V, R3, R0 ++ [x], by go_num, by omega, by omega, Lib.hid ?_, Lib.hid (by rw [hR.out]; simp), Lib.hid (hp.2.trans ?_), Lib.hid hp.1, Lib.hid ?_⟩
              · have h1 := hk.out
                rw [hUV.out] at h1
                simp at h1 ⊢
                omega
              · have h1 := hArr.out
                rw [hUV.out] at h1
                exact h1.app (Arr.refl _ _)
              · have := HT.out
                simpa using this
            case measure => simp [intOf] <;> omega
      · obtain rfl : k = b := by omega
        have e2 : R2 = [] := List.eq_nil_of_length_eq_zero (by have h1 := congrArg List.length hR.out; have h2 := hArr.out.len; have h3 := Hb.out; have h4 := hk.out; rw [List.length_append] at h1; omega)
        have hR := hR.out
        subst e2
        rw [List.append_nil] at hR
        subst hR
        have hat2 := Lib.hid hat.out
        clear hk hat
        go_wp2_with fail
        go_end0
        exact ⟨rfl, R1, hsrt.out, hArr.out, by simpa using hat2.out⟩

end Go.Proofs.YtipemmjbgegmfaaGreatDoor

/- slices.SortStableFunc: one element is merged with a run behind it. -/
namespace Go.Proofs.YtipemmjbgegmfaaGreatDoor
open Go.RowKit Go.Proofs.YtipemmjbgegmfaaGreatDoor.Stb
variable {W : World} {g N D : Nat} {P S : List Nat} {c : FuncId} {cb : Value} {cls : Nat → Nat} {r : Nat → Nat → Int}

set_option maxRecDepth 100000 in
set_option maxHeartbeats 1600000 in
theorem merge_left (K : CmpOk c cb W N cls r) (X : List Nat) (x : Nat) (B Z : List Nat) (o len cap a m b : Nat) (w : World) (h : Pat W g N D P S (X ++ x :: (B ++ Z)) w) (ho : o = P.length) (hlen : len = (X ++ x :: (B ++ Z)).length)
    (ha : a = X.length) (hm : m = a + 1) (hb : b = a + 1 + B.length) (hN : N ≤ 4611686018427387904) (hs : srt cls B) :
    Calls Tryz.prog 126 #[.slice (some ⟨g, o, none⟩) len cap, .int .i64 (a : Int), .int .i64 (m : Int), .int .i64 (b : Int), .func (.func c) #[] #[cb]] w fun e w' => e = .returned (.tuple #[]) ∧ ∃ R, Mg cls [x] B R ∧ Pat W g N D P S (X ++ (R ++ Z)) w' := by
  have hlt := h.lt
  have hlN : P.length + len ≤ N := by rw [hlen]; exact hlt
  have hll : len = a + 1 + B.length + Z.length := by rw [hlen, ha]; simp; omega
  have hoN : o + len ≤ 4611686018427387904 := by omega
  have hbl : b ≤ len := by omega
  have hab : a + 1 ≤ b := by omega
  have hm1 : (m : Int) - (a : Int) = 1 := by omega
  have hma : a + 1 ≤ m := by omega
  have hmb : m ≤ a + 1 := by omega
  have H := Lib.hid h
  have Ho := Lib.hid ho
  have Ha := Lib.hid ha
  have Hb := Lib.hid hb
  have HE := Lib.hid K.enter
  have HC := Lib.hid K.call
  have HL := Lib.hid K.less
  have HS := Lib.hid hs
  clear h ho ha hb hlen hll hlN hlt K hs hm
  go_enter Tryz.func126, Tryz.ntmps126
  go_wp2_with fail
  go_loopw [10, 11] (fun i j wr => ∃ (p q : Nat), i = .int .i64 (p : Int) ∧ j = .int .i64 (q : Int) ∧ a + 1 ≤ p ∧ p ≤ q ∧ q ≤ b ∧ Hid (∀ t (ht : t < B.length), a + 1 + t < p → cls B[t] < cls x) ∧ Hid (∀ t (ht : t < B.length), q ≤ a + 1 + t → cls x ≤ cls B[t]) ∧ Hid (Pat W g N D P S (X ++ x :: (B ++ Z)) wr)) (fun i j _ => (intOf j).toNat - (intOf i).toNat)
  case atStart => exact ⟨m, b, rfl, rfl, hma, by omega, Nat.le_refl _, Lib.hid (fun t _ h => by omega), Lib.hid (fun t ht h => by have := Hb.out; omega), H⟩
  case round =>
    obtain ⟨p, q, rfl, rfl, hp, hpq, hq, hlo, hhi, hat⟩ := hrel
    clear H
    by_cases hlt : p < q
    · obtain ⟨hh, he, hh1, hh2⟩ : ∃ hh : Nat, ((p : Int) + (q : Int)) / 2 = (hh : Int) ∧ p ≤ hh ∧ hh < q := ⟨(p + q) / 2, by omega, by omega, by omega⟩
      have htb : hh - (a + 1) < B.length := by have := Hb.out; omega
      obtain ⟨y, hy⟩ : ∃ y, B[hh - (a + 1)] = y := ⟨_, rfl⟩
      have i1 : o + hh = P.length + (X ++ x :: B.take (hh - (a + 1))).length := by rw [Ho.out]; simp; have := Ha.out; omega
      have i2 : o + a = P.length + X.length := by rw [Ho.out, Ha.out]
      have CF := Lib.hid (fun w' (u : Up wr w') => show w'.cell? ⟨g, o + hh, none⟩ = some (.int .i64 (y : Int)) ∧ w'.cell? ⟨g, o + a, none⟩ = some (.int .i64 (x : Int)) from by
        have h1 := hat.out.go u
        refine ⟨?_, (h1.cell i2).1⟩
        have e : X ++ x :: (B ++ Z) = (X ++ x :: B.take (hh - (a + 1))) ++ y :: (B.drop (hh - (a + 1) + 1) ++ Z) := by
          have : B = B.take (hh - (a + 1)) ++ y :: B.drop (hh - (a + 1) + 1) := by rw [← hy, ← List.drop_eq_getElem_cons htb, List.take_append_drop]
          have h2 : X ++ x :: (B ++ Z) = X ++ x :: ((B.take (hh - (a + 1)) ++ y :: B.drop (hh - (a + 1) + 1)) ++ Z) := by rw [← this]
          rw [h2]
          simp only [List.append_assoc, List.cons_append]
        rw [e] at h1
        exact (h1.cell i1).1)
      have hhl : hh < len := by omega
      have hal : a < len := by omega
      have hen := HE.out
      have HY := Lib.hid hy
      clear i1 i2 hy
      go_wp2_with fail
      refine wp_region_pi [(0, false), (1, false), (2, false), (3, false), (4, false), (5, false), (6, false), (7, false), (8, false), (9, true), (10, false)] (by kernel_rfl) (by kernel_rfl) (fun _ _ d _ _ h => by cases d <;> exact h) ?_
      ((with_reducible apply pi_take); (focus exact rfl); (focus exact rfl); (focus (intro w' u1; obtain ⟨cc1, cc2⟩ := CF.out w' (Up.of_drew u1); go_simp; try with_reducible rfl; done)); dsimp only [Act.put]; simp only [List.setIfInBounds_toArray, List.set_cons_succ, List.set_cons_zero])
      ((with_reducible apply pi_take); (focus exact rfl); (focus exact rfl); (focus (intro w' u1; obtain ⟨cc1, cc2⟩ := CF.out w' (Up.of_drew u1); go_simp; try with_reducible rfl; done)); dsimp only [Act.put]; simp only [List.setIfInBounds_toArray, List.set_cons_succ, List.set_cons_zero])
      ((with_reducible apply pi_take); (focus exact rfl); (focus exact rfl); (focus (intro w' u1; obtain ⟨cc1, cc2⟩ := CF.out w' (Up.of_drew u1); go_simp; try with_reducible rfl; done)); dsimp only [Act.put]; simp only [List.setIfInBounds_toArray, List.set_cons_succ, List.set_cons_zero])
      ((with_reducible apply pi_take); (focus exact rfl); (focus exact rfl); (focus (intro w' u1; obtain ⟨cc1, cc2⟩ := CF.out w' (Up.of_drew u1); go_simp; try with_reducible rfl; done)); dsimp only [Act.put]; simp only [List.setIfInBounds_toArray, List.set_cons_succ, List.set_cons_zero])
      ((with_reducible apply pi_take); (focus exact rfl); (focus exact rfl); (focus (intro w' u1; obtain ⟨cc1, cc2⟩ := CF.out w' (Up.of_drew u1); go_simp; try with_reducible rfl; done)); dsimp only [Act.put]; simp only [List.setIfInBounds_toArray, List.set_cons_succ, List.set_cons_zero])
      ((with_reducible apply pi_take); (focus exact rfl); (focus exact rfl); (focus (intro w' u1; obtain ⟨cc1, cc2⟩ := CF.out w' (Up.of_drew u1); go_simp; try with_reducible rfl; done)); dsimp only [Act.put]; simp only [List.setIfInBounds_toArray, List.set_cons_succ, List.set_cons_zero])
      ((with_reducible apply pi_take); (focus exact rfl); (focus exact rfl); (focus (intro w' u1; obtain ⟨cc1, cc2⟩ := CF.out w' (Up.of_drew u1); go_simp; try with_reducible rfl; done)); dsimp only [Act.put]; simp only [List.setIfInBounds_toArray, List.set_cons_succ, List.set_cons_zero])
      ((with_reducible apply pi_take); (focus exact rfl); (focus exact rfl); (focus (intro w' u1; obtain ⟨cc1, cc2⟩ := CF.out w' (Up.of_drew u1); go_simp; try with_reducible rfl; done)); dsimp only [Act.put]; simp only [List.setIfInBounds_toArray, List.set_cons_succ, List.set_cons_zero])
      ((with_reducible apply pi_take); (focus exact rfl); (focus exact rfl); (focus (intro w' u1; obtain ⟨cc1, cc2⟩ := CF.out w' (Up.of_drew u1); go_simp; try with_reducible rfl; done)); dsimp only [Act.put]; simp only [List.setIfInBounds_toArray, List.set_cons_succ, List.set_cons_zero])
      refine pi_make rfl rfl (fun K hK => ?_)
      go_simp
      refine (HC.out y x _ (hat.out.is (by rw [← HY.out]; simp)) (hat.out.is (by simp)) (hat.out.up.trans ((Up.refl _).drew))).mono ?_
      rintro e w3 ⟨rfl, hz⟩
      have HT := Lib.hid (hat.out.go (Up.of_drew hz))
      refine hK.out _ _ hz ?_
      clear hK K hz CF hen
      by_cases hless : cls y < cls x
      · have hr0 : r y x < 0 := (HL.out y x).2 hless
        have hr1 : decide (r y x < 0) = true := decide_eq_true hr0
        ((with_reducible apply pi_take); (focus exact rfl); (focus exact rfl); (focus (intro w' u1; go_simp; try with_reducible rfl; done)); dsimp only [Act.put]; simp only [List.setIfInBounds_toArray, List.set_cons_succ, List.set_cons_zero])
        refine pi_done ?_
        go_wp2_with fail
        go_roundw
        case rel => exact ⟨hh + 1, q, by go_num, rfl, by omega, by omega, hq, Lib.hid (fun t ht h => Nat.lt_of_le_of_lt (srt_get HS.out (i := t) (j := hh - (a + 1)) (by omega) htb) (by rw [HY.out]; exact hless)), hhi, HT⟩
        case measure => simp [intOf] <;> omega
      · have hr0 : ¬ r y x < 0 := fun h => hless ((HL.out y x).1 h)
        have hr1 : decide (r y x < 0) = false := decide_eq_false hr0
        ((with_reducible apply pi_take); (focus exact rfl); (focus exact rfl); (focus (intro w' u1; go_simp; try with_reducible rfl; done)); dsimp only [Act.put]; simp only [List.setIfInBounds_toArray, List.set_cons_succ, List.set_cons_zero])
        refine pi_done ?_
        go_wp2_with fail
        go_roundw
        case rel => exact ⟨p, hh, rfl, by go_num, hp, hh1, by omega, hlo, Lib.hid (fun t ht h => Nat.le_trans (by rw [← HY.out] at hless; omega) (srt_get HS.out (i := hh - (a + 1)) (j := t) (by omega) ht)), HT⟩
        case measure => simp [intOf] <;> omega
    · obtain rfl : p = q := by omega
      obtain ⟨p1, rfl⟩ : ∃ p1, p = p1 + 1 := ⟨p - 1, by omega⟩
      obtain ⟨B1, B2, rfl, hB1⟩ : ∃ B1 B2, B = B1 ++ B2 ∧ B1.length = p1 - a := ⟨B.take (p1 - a), B.drop (p1 - a), (List.take_append_drop _ _).symm, by rw [List.length_take]; have := Hb.out; omega⟩
      have m1 : ∀ y ∈ B1, cls y < cls x := fun y hy => by
        obtain ⟨t, ht, rfl⟩ := List.getElem_of_mem hy
        have := hlo.out t (by simp; omega) (by omega)
        rwa [List.getElem_append_left ht] at this
      have m2 : ∀ y ∈ B2, cls x ≤ cls y := fun y hy => by
        obtain ⟨t, ht, rfl⟩ := List.getElem_of_mem hy
        have := hhi.out (B1.length + t) (by simp; omega) (by omega)
        rw [List.getElem_append_right (by omega)] at this
        simpa using this
      have hput := Lib.hid (put_first HS.out m1 m2)
      have hwp : IntKind.i64.wrap (p1 : Int) = (p1 : Int) := IntWalk.i64_in _ (by omega)
      have HB1 := Lib.hid hB1
      clear hB1 m1 m2 hlo hhi hlt
      go_wp2_with fail
      rename World => wo
      go_loopw [13] (fun k wr => ∃ (kk : Nat) (C1 C2 : List Nat), k = .int .i64 (kk : Int) ∧ a ≤ kk ∧ kk ≤ p1 ∧ Hid (B1 = C1 ++ C2) ∧ Hid (kk = a + C1.length) ∧ Hid (Pat W g N D P S (X ++ (C1 ++ x :: (C2 ++ (B2 ++ Z)))) wr)) (fun k _ => p1 - (intOf k).toNat)
      case atStart => exact ⟨a, [], B1, rfl, Nat.le_refl _, by omega, Lib.hid rfl, Lib.hid rfl, Lib.hid (by have := hat.out; simpa using this)⟩
      case round =>
        obtain ⟨kk, C1, C2, rfl, hak, hkp, hC, hkC, hat2⟩ := hrel
        clear hat
        by_cases hkl : kk < p1
        · obtain ⟨y, C3, rfl⟩ : ∃ y C3, C2 = y :: C3 := by
            cases C2 with
            | nil => have h1 := congrArg List.length hC.out; have h2 := HB1.out; have h3 := hkC.out; rw [List.append_nil] at h1; omega
            | cons y C3 => exact ⟨y, C3, rfl⟩
          have h0 := hat2.out
          rw [show X ++ (C1 ++ x :: (y :: C3 ++ (B2 ++ Z))) = (X ++ C1) ++ x :: ([] ++ y :: (C3 ++ (B2 ++ Z))) by simp] at h0
          have i1 : o + kk = P.length + (X ++ C1).length := by rw [Ho.out, List.length_append, hkC.out, Ha.out]
          have i2 : o + (kk + 1) = P.length + (X ++ C1).length + 1 + ([] : List Nat).length := by rw [List.length_nil]; omega
          obtain ⟨⟨k1, f1⟩, k2, f2⟩ := h0.two i1 i2
          have HSw := Lib.hid (h0.swap i1 i2)
          have hkn : kk + 1 < len := by omega
          clear h0 i1 i2 hat2
          go_wp2_with fail
          go_region
          go_wp2_with fail
          go_roundw
          case rel =>
            refine ⟨kk + 1, C1 ++ [y], C3, by go_num, by omega, by omega, Lib.hid (by rw [hC.out]; simp), Lib.hid (by have := hkC.out; simp; omega), Lib.hid ?_⟩
            have := HSw.out.go ((Up.refl _).drew)
            simpa using this
          case measure => simp [intOf] <;> omega
        · obtain rfl : kk = p1 := by omega
          have e2 : C2 = [] := List.eq_nil_of_length_eq_zero (by have h1 := congrArg List.length hC.out; have h2 := HB1.out; have h3 := hkC.out; rw [List.length_append] at h1; omega)
          have hC1 := hC.out
          subst e2
          rw [List.append_nil] at hC1
          subst hC1
          have hfin := hat2.out
          rw [List.nil_append] at hfin
          have HF := Lib.hid hfin
          clear hfin hat2
          go_wp2_with fail
          (try simp only [Exit.inBlock, Exit.then])
          refine bodyPost_ret (results_none rfl _ _ _) rfl ?_
          exact ⟨rfl, B1 ++ x :: B2, hput.out, by have := HF.out; simpa using this⟩

end Go.Proofs.YtipemmjbgegmfaaGreatDoor

/- slices.SortStableFunc: one element is merged with a run ahead of it. -/
namespace Go.Proofs.YtipemmjbgegmfaaGreatDoor
open Go.RowKit Go.Proofs.YtipemmjbgegmfaaGreatDoor.Stb
variable {W : World} {g N D : Nat} {P S : List Nat} {c : FuncId} {cb : Value} {cls : Nat → Nat} {r : Nat → Nat → Int}

set_option maxRecDepth 100000 in
set_option maxHeartbeats 1600000 in
theorem merge_right (K : CmpOk c cb W N cls r) (X A : List Nat) (x : Nat) (Z : List Nat) (o len cap a m b : Nat) (w : World) (h : Pat W g N D P S (X ++ (A ++ x :: Z)) w) (ho : o = P.length) (hlen : len = (X ++ (A ++ x :: Z)).length)
    (ha : a = X.length) (hm : m = a + A.length) (hb : b = m + 1) (hA : A.length ≠ 1) (hN : N ≤ 4611686018427387904) (hs : srt cls A) :
    Calls Tryz.prog 126 #[.slice (some ⟨g, o, none⟩) len cap, .int .i64 (a : Int), .int .i64 (m : Int), .int .i64 (b : Int), .func (.func c) #[] #[cb]] w fun e w' => e = .returned (.tuple #[]) ∧ ∃ R, Mg cls A [x] R ∧ Pat W g N D P S (X ++ (R ++ Z)) w' := by
  have hlt := h.lt
  have hlN : P.length + len ≤ N := by rw [hlen]; exact hlt
  have hll : len = a + A.length + 1 + Z.length := by rw [hlen, ha]; simp; omega
  have hoN : o + len ≤ 4611686018427387904 := by omega
  have hml : m < len := by omega
  have hbl : b ≤ len := by omega
  have ham : a ≤ m := by omega
  have hn1 : ((m : Int) - (a : Int) == 1) = false := beq_eq_false_iff_ne.2 (by omega)
  have hb1 : (b : Int) - (m : Int) = 1 := by omega
  have H := Lib.hid h
  have Ho := Lib.hid ho
  have Ha := Lib.hid ha
  have Hm := Lib.hid hm
  have HE := Lib.hid K.enter
  have HC := Lib.hid K.call
  have HL := Lib.hid K.less
  have HS := Lib.hid hs
  clear h ho ha hb hlen hll hlN hlt K hs hm hA
  go_enter Tryz.func126, Tryz.ntmps126
  go_wp2_with fail
  go_loopw [14, 15] (fun i j wr => ∃ (p q : Nat), i = .int .i64 (p : Int) ∧ j = .int .i64 (q : Int) ∧ a ≤ p ∧ p ≤ q ∧ q ≤ m ∧ Hid (∀ t (ht : t < A.length), a + t < p → cls A[t] ≤ cls x) ∧ Hid (∀ t (ht : t < A.length), q ≤ a + t → cls x < cls A[t]) ∧ Hid (Pat W g N D P S (X ++ (A ++ x :: Z)) wr)) (fun i j _ => (intOf j).toNat - (intOf i).toNat)
  case atStart => exact ⟨a, m, rfl, rfl, Nat.le_refl _, ham, Nat.le_refl _, Lib.hid (fun t _ h => by omega), Lib.hid (fun t ht h => by have := Hm.out; omega), H⟩
  case round =>
    obtain ⟨p, q, rfl, rfl, hp, hpq, hq, hlo, hhi, hat⟩ := hrel
    clear H
    by_cases hlt : p < q
    · obtain ⟨hh, he, hh1, hh2⟩ : ∃ hh : Nat, ((p : Int) + (q : Int)) / 2 = (hh : Int) ∧ p ≤ hh ∧ hh < q := ⟨(p + q) / 2, by omega, by omega, by omega⟩
      have htb : hh - a < A.length := by have := Hm.out; omega
      obtain ⟨y, hy⟩ : ∃ y, A[hh - a] = y := ⟨_, rfl⟩
      have i1 : o + hh = P.length + (X ++ A.take (hh - a)).length := by rw [Ho.out]; simp; have := Ha.out; omega
      have i2 : o + m = P.length + (X ++ A).length := by rw [Ho.out, List.length_append, ← Ha.out, ← Hm.out]
      have CF := Lib.hid (fun w' (u : Up wr w') => show w'.cell? ⟨g, o + hh, none⟩ = some (.int .i64 (y : Int)) ∧ w'.cell? ⟨g, o + m, none⟩ = some (.int .i64 (x : Int)) from by
        have h1 := hat.out.go u
        have h3 := h1
        rw [show X ++ (A ++ x :: Z) = (X ++ A) ++ x :: Z by simp] at h3
        refine ⟨?_, (h3.cell i2).1⟩
        have e : X ++ (A ++ x :: Z) = (X ++ A.take (hh - a)) ++ y :: (A.drop (hh - a + 1) ++ x :: Z) := by
          have : A = A.take (hh - a) ++ y :: A.drop (hh - a + 1) := by rw [← hy, ← List.drop_eq_getElem_cons htb, List.take_append_drop]
          have h2 : X ++ (A ++ x :: Z) = X ++ ((A.take (hh - a) ++ y :: A.drop (hh - a + 1)) ++ x :: Z) := by rw [← this]
          rw [h2]
          simp only [List.append_assoc, List.cons_append]
        rw [e] at h1
        exact (h1.cell i1).1)
      have hhl : hh < len := by omega
      have hen := HE.out
      have HY := Lib.hid hy
      clear i1 i2 hy
      go_wp2_with fail
      refine wp_region_pi [(0, false), (1, false), (2, false), (3, false), (4, false), (5, false), (6, false), (7, false), (8, false), (9, true), (10, false), (11, false)] (by kernel_rfl) (by kernel_rfl) (fun _ _ d _ _ h => by cases d <;> exact h) ?_
      ((with_reducible apply pi_take); (focus exact rfl); (focus exact rfl); (focus (intro w' u1; obtain ⟨cc1, cc2⟩ := CF.out w' (Up.of_drew u1); go_simp; try with_reducible rfl; done)); dsimp only [Act.put]; simp only [List.setIfInBounds_toArray, List.set_cons_succ, List.set_cons_zero])
      ((with_reducible apply pi_take); (focus exact rfl); (focus exact rfl); (focus (intro w' u1; obtain ⟨cc1, cc2⟩ := CF.out w' (Up.of_drew u1); go_simp; try with_reducible rfl; done)); dsimp only [Act.put]; simp only [List.setIfInBounds_toArray, List.set_cons_succ, List.set_cons_zero])
      ((with_reducible apply pi_take); (focus exact rfl); (focus exact rfl); (focus (intro w' u1; obtain ⟨cc1, cc2⟩ := CF.out w' (Up.of_drew u1); go_simp; try with_reducible rfl; done)); dsimp only [Act.put]; simp only [List.setIfInBounds_toArray, List.set_cons_succ, List.set_cons_zero])
      ((with_reducible apply pi_take); (focus exact rfl); (focus exact rfl); (focus (intro w' u1; obtain ⟨cc1, cc2⟩ := CF.out w' (Up.of_drew u1); go_simp; try with_reducible rfl; done)); dsimp only [Act.put]; simp only [List.setIfInBounds_toArray, List.set_cons_succ, List.set_cons_zero])
      ((with_reducible apply pi_take); (focus exact rfl); (focus exact rfl); (focus (intro w' u1; obtain ⟨cc1, cc2⟩ := CF.out w' (Up.of_drew u1); go_simp; try with_reducible rfl; done)); dsimp only [Act.put]; simp only [List.setIfInBounds_toArray, List.set_cons_succ, List.set_cons_zero])
      ((with_reducible apply pi_take); (focus exact rfl); (focus exact rfl); (focus (intro w' u1; obtain ⟨cc1, cc2⟩ := CF.out w' (Up.of_drew u1); go_simp; try with_reducible rfl; done)); dsimp only [Act.put]; simp only [List.setIfInBounds_toArray, List.set_cons_succ, List.set_cons_zero])
      ((with_reducible apply pi_take); (focus exact rfl); (focus exact rfl); (focus (intro w' u1; obtain ⟨cc1, cc2⟩ := CF.out w' (Up.of_drew u1); go_simp; try with_reducible rfl; done)); dsimp only [Act.put]; simp only [List.setIfInBounds_toArray, List.set_cons_succ, List.set_cons_zero])
      ((with_reducible apply pi_take); (focus exact rfl); (focus exact rfl); (focus (intro w' u1; obtain ⟨cc1, cc2⟩ := CF.out w' (Up.of_drew u1); go_simp; try with_reducible rfl; done)); dsimp only [Act.put]; simp only [List.setIfInBounds_toArray, List.set_cons_succ, List.set_cons_zero])
      ((with_reducible apply pi_take); (focus exact rfl); (focus exact rfl); (focus (intro w' u1; obtain ⟨cc1, cc2⟩ := CF.out w' (Up.of_drew u1); go_simp; try with_reducible rfl; done)); dsimp only [Act.put]; simp only [List.setIfInBounds_toArray, List.set_cons_succ, List.set_cons_zero])
      refine pi_make rfl rfl (fun K hK => ?_)
      go_simp
      refine (HC.out x y _ (hat.out.is (by simp)) (hat.out.is (by rw [← HY.out]; simp)) (hat.out.up.trans ((Up.refl _).drew))).mono ?_
      rintro e w3 ⟨rfl, hz⟩
      have HT := Lib.hid (hat.out.go (Up.of_drew hz))
      refine hK.out _ _ hz ?_
      clear hK K hz CF hen
      by_cases hless : cls x < cls y
      · have hr0 : r x y < 0 := (HL.out x y).2 hless
        have hr1 : decide (r x y < 0) = true := decide_eq_true hr0
        ((with_reducible apply pi_take); (focus exact rfl); (focus exact rfl); (focus (intro w' u1; go_simp; try with_reducible rfl; done)); dsimp only [Act.put]; simp only [List.setIfInBounds_toArray, List.set_cons_succ, List.set_cons_zero])
        ((with_reducible apply pi_take); (focus exact rfl); (focus exact rfl); (focus (intro w' u1; go_simp; try with_reducible rfl; done)); dsimp only [Act.put]; simp only [List.setIfInBounds_toArray, List.set_cons_succ, List.set_cons_zero])
        refine pi_done ?_
        go_wp2_with fail
        go_roundw
        case rel => exact ⟨p, hh, rfl, by go_num, hp, hh1, by omega, hlo, Lib.hid (fun t ht h => Nat.lt_of_lt_of_le (by rw [← HY.out] at hless; exact hless) (srt_get HS.out (i := hh - a) (j := t) (by omega) ht)), HT⟩
        case measure => simp [intOf] <;> omega
      · have hr0 : ¬ r x y < 0 := fun h => hless ((HL.out x y).1 h)
        have hr1 : decide (r x y < 0) = false := decide_eq_false hr0
        ((with_reducible apply pi_take); (focus exact rfl); (focus exact rfl); (focus (intro w' u1; go_simp; try with_reducible rfl; done)); dsimp only [Act.put]; simp only [List.setIfInBounds_toArray, List.set_cons_succ, List.set_cons_zero])
        ((with_reducible apply pi_take); (focus exact rfl); (focus exact rfl); (focus (intro w' u1; go_simp; try with_reducible rfl; done)); dsimp only [Act.put]; simp only [List.setIfInBounds_toArray, List.set_cons_succ, List.set_cons_zero])
        refine pi_done ?_
        go_wp2_with fail
        go_roundw
        case rel => exact ⟨hh + 1, q, by go_num, rfl, by omega, by omega, hq, Lib.hid (fun t ht h => Nat.le_trans (srt_get HS.out (i := t) (j := hh - a) (by omega) htb) (by rw [HY.out]; omega)), hhi, HT⟩
        case measure => simp [intOf] <;> omega
    · obtain rfl : p = q := by omega
      obtain ⟨A1, A2, rfl, hA1⟩ : ∃ A1 A2, A = A1 ++ A2 ∧ A1.length = p - a := ⟨A.take (p - a), A.drop (p - a), (List.take_append_drop _ _).symm, by rw [List.length_take]; have := Hm.out; omega⟩
      have m1 : ∀ y ∈ A1, cls y ≤ cls x := fun y hy => by
        obtain ⟨t, ht, rfl⟩ := List.getElem_of_mem hy
        have := hlo.out t (by simp; omega) (by omega)
        rwa [List.getElem_append_left ht] at this
      have m2 : ∀ y ∈ A2, cls x < cls y := fun y hy => by
        obtain ⟨t, ht, rfl⟩ := List.getElem_of_mem hy
        have := hhi.out (A1.length + t) (by simp; omega) (by omega)
        rw [List.getElem_append_right (by omega)] at this
        simpa using this
      have hput := Lib.hid (put_in HS.out m2 m1)
      have HA1 := Lib.hid hA1
      clear hA1 m1 m2 hlo hhi hlt
      go_wp2_with fail
      rename World => wo
      go_loopw [17] (fun k wr => ∃ (kk : Nat) (C1 C2 : List Nat), k = .int .i64 (kk : Int) ∧ p ≤ kk ∧ kk ≤ m ∧ Hid (A2 = C1 ++ C2) ∧ Hid (kk = p + C1.length) ∧ Hid (Pat W g N D P S (X ++ (A1 ++ (C1 ++ x :: (C2 ++ Z)))) wr)) (fun k _ => (intOf k).toNat)
      case atStart => exact ⟨m, A2, [], rfl, hq, Nat.le_refl _, Lib.hid (List.append_nil _).symm, Lib.hid (by have h1 := Hm.out; have h2 := HA1.out; simp at h1; omega), Lib.hid (by have := hat.out; simpa using this)⟩
      case round =>
        obtain ⟨kk, C1, C2, rfl, hpk, hkm, hC, hkC, hat2⟩ := hrel
        clear hat
        by_cases hkl : p < kk
        · obtain ⟨C3, y, rfl⟩ : ∃ C3 y, C1 = C3 ++ [y] := by
            have h1 := hkC.out
            have h2 : C1 ≠ [] := fun e => by rw [e] at h1; simp at h1; omega
            exact ⟨C1.dropLast, C1.getLast h2, (List.dropLast_concat_getLast h2).symm⟩
          obtain ⟨kp, rfl⟩ : ∃ kp, kk = kp + 1 := ⟨kk - 1, by omega⟩
          have hkp : kp = p + C3.length := by have h1 := hkC.out; simp at h1; omega
          have h0 := hat2.out
          rw [show X ++ (A1 ++ (C3 ++ [y] ++ x :: (C2 ++ Z))) = (X ++ A1 ++ C3) ++ y :: ([] ++ x :: (C2 ++ Z)) by simp] at h0
          have i1 : o + kp = P.length + (X ++ A1 ++ C3).length := by rw [Ho.out]; simp; have h1 := HA1.out; have h2 := Ha.out; omega
          have i2 : o + (kp + 1) = P.length + (X ++ A1 ++ C3).length + 1 + ([] : List Nat).length := by rw [List.length_nil]; omega
          obtain ⟨⟨k1, f1⟩, k2, f2⟩ := h0.two i1 i2
          have HSw := Lib.hid (h0.swap2 i1 i2)
          have hkn : kp + 1 < len := by omega
          have hwk : IntKind.i64.wrap (kp : Int) = (kp : Int) := IntWalk.i64_in _ (by omega)
          have hgt : (p : Int) < (kp : Int) + 1 := by omega
          have hk2 : kp < len := by omega
          have HK := Lib.hid hkp
          clear h0 i1 i2 hat2 hkp
          go_wp2_with fail
          go_region
          go_wp2_with fail
          go_roundw
          case rel =>
            refine ⟨kp, C3, y :: C2, by go_num, by omega, by omega, Lib.hid (by rw [hC.out]; simp), HK, Lib.hid ?_⟩
            have := HSw.out.go ((Up.refl _).drew)
            simpa using this
          case measure => simp [intOf] <;> omega
        · obtain rfl : kk = p := by omega
          have e2 : C1 = [] := List.eq_nil_of_length_eq_zero (by have h3 := hkC.out; omega)
          have hC1 := hC.out
          subst e2
          rw [List.nil_append] at hC1
          subst hC1
          have hfin := hat2.out
          rw [List.nil_append] at hfin
          have HF := Lib.hid hfin
          clear hfin hat2
          go_wp2_with fail
          (try simp only [Exit.inBlock, Exit.then])
          refine bodyPost_ret (results_none rfl _ _ _) rfl ?_
          exact ⟨rfl, A1 ++ x :: A2, hput.out, by have := HF.out; simpa using this⟩

end Go.Proofs.YtipemmjbgegmfaaGreatDoor
