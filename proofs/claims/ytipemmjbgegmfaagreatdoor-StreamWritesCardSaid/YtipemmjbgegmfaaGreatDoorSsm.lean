/- Ssm: one text of Ssg Ssh Ssi Ssj. -/
import Derived.Test.YtipemmjbgegmfaaGreatDoorSsl

/- slices.SortStableFunc: two runs are merged, the general case. -/
namespace Go.Proofs.YtipemmjbgegmfaaGreatDoor
open Go.RowKit Go.Proofs.YtipemmjbgegmfaaGreatDoor.Stb
variable {W : World} {g N D : Nat} {P S : List Nat} {c : FuncId} {cb : Value} {cls : Nat → Nat} {r : Nat → Nat → Int}

theorem sym_split {A1 A2 B1 B2 : List Nat} (ha : srt cls (A1 ++ A2)) (hb : srt cls (B1 ++ B2))
    (h1 : A1 = [] ∨ B2 = [] ∨ ∃ A' u v B', A1 = A' ++ [u] ∧ B2 = v :: B' ∧ cls u ≤ cls v)
    (h2 : A2 = [] ∨ B1 = [] ∨ ∃ u A' B' v, A2 = u :: A' ∧ B1 = B' ++ [v] ∧ cls v < cls u) :
    (∀ x ∈ A1, ∀ y ∈ B2, cls x ≤ cls y) ∧ ∀ x ∈ A2, ∀ y ∈ B1, cls y < cls x := by
  have ha := srt_app.1 ha
  have hb := srt_app.1 hb
  constructor
  · rcases h1 with rfl | rfl | ⟨A', u, v, B', rfl, rfl, h⟩
    · intro x hx; cases hx
    · intro x _ y hy; cases hy
    · exact ends_le ha.1 hb.2.1 h
  · rcases h2 with rfl | rfl | ⟨u, A', B', v, rfl, rfl, h⟩
    · intro x hx; cases hx
    · intro x _ y hy; cases hy
    · exact ends_lt hb.1 ha.2.1 h

theorem Pat.at_ {w : World} {X L Z : List Nat} (h : Pat W g N D P S (X ++ (L ++ Z)) w) {t i : Nat} (ht : t < L.length) (hi : i = P.length + X.length + t) : w.cell? ⟨g, i, none⟩ = some (.int .i64 ((L.getD t 0 : Nat) : Int)) := by
  have e : L.getD t 0 = L[t] := by simp [ht]
  have e2 : L = L.take t ++ L[t] :: L.drop (t + 1) := by rw [← List.drop_eq_getElem_cons ht, List.take_append_drop]
  have e3 : X ++ (L ++ Z) = (X ++ L.take t) ++ L[t] :: (L.drop (t + 1) ++ Z) := by
    have : X ++ (L ++ Z) = X ++ ((L.take t ++ L[t] :: L.drop (t + 1)) ++ Z) := by rw [← e2]
    rw [this]
    simp only [List.append_assoc, List.cons_append]
  rw [e3] at h
  rw [e]
  exact (h.cell (by simp; omega)).1

theorem Pat.at_lt {w : World} {X L Z : List Nat} (h : Pat W g N D P S (X ++ (L ++ Z)) w) {t : Nat} (ht : t < L.length) : L.getD t 0 < N := by
  have e : L.getD t 0 = L[t] := by simp [ht]
  rw [e]
  exact h.is (List.mem_append_right _ (List.mem_append_left _ (List.getElem_mem ht)))

/-- What the search finds. -/
theorem sym_found {A B : List Nat} {a m b mid n lo hi s : Nat} (hm : m = a + A.length) (hb : b = m + B.length) (hmid : mid = (a + b) / 2) (hn : n = mid + m)
    (hc : (mid < m ∧ lo + b = n ∧ hi = mid) ∨ (m ≤ mid ∧ lo = a ∧ hi = m)) (h1 : lo ≤ s) (h2 : s ≤ hi)
    (hl : ∀ k, lo ≤ k → k < s → cls ((A ++ B).getD (k - a) 0) ≤ cls ((A ++ B).getD (n - 1 - k - a) 0)) (hg : ∀ k, s ≤ k → k < hi → cls ((A ++ B).getD (n - 1 - k - a) 0) < cls ((A ++ B).getD (k - a) 0))
    (ha : srt cls A) (hB : srt cls B) :
    ∃ A1 A2 B1 B2, A = A1 ++ A2 ∧ B = B1 ++ B2 ∧ s = a + A1.length ∧ n - s = m + B1.length ∧ (∀ x ∈ A1, ∀ y ∈ B2, cls x ≤ cls y) ∧ ∀ x ∈ A2, ∀ y ∈ B1, cls y < cls x := by
  have hs1 : a ≤ s := by omega
  have hs2 : s ≤ m := by omega
  have hs3 : m ≤ n - s := by omega
  have hs4 : n - s ≤ b := by omega
  have eA : A = A.take (s - a) ++ A.drop (s - a) := (List.take_append_drop _ _).symm
  have eB : B = B.take (n - s - m) ++ B.drop (n - s - m) := (List.take_append_drop _ _).symm
  have getA : ∀ k (h : k - a < A.length), (A ++ B).getD (k - a) 0 = A[k - a] := fun k h => by
    rw [List.getD_eq_getElem?_getD, List.getElem?_append_left h, List.getElem?_eq_getElem h]; rfl
  have getB : ∀ k (h0 : m ≤ k) (h : k - m < B.length), (A ++ B).getD (k - a) 0 = B[k - m] := fun k h0 h => by
    rw [List.getD_eq_getElem?_getD, List.getElem?_append_right (by omega), show k - a - A.length = k - m by omega, List.getElem?_eq_getElem h]; rfl
  refine ⟨_, _, _, _, eA, eB, by rw [List.length_take]; omega, by rw [List.length_take]; omega, ?_⟩
  refine sym_split (by rw [← eA]; exact ha) (by rw [← eB]; exact hB) ?_ ?_
  · by_cases hls : lo < s
    · by_cases hb2 : n - s < b
      · have k1 := hl (s - 1) (by omega) (by omega)
        have j1 : s - 1 - a < A.length := by omega
        have j2 : n - s - m < B.length := by omega
        rw [getA _ j1, show n - 1 - (s - 1) - a = n - s - a by omega, getB _ hs3 j2] at k1
        refine .inr (.inr ⟨A.take (s - 1 - a), _, _, B.drop (n - s - m + 1), ?_, List.drop_eq_getElem_cons j2, k1⟩)
        rw [show s - a = s - 1 - a + 1 by omega, List.take_succ_eq_append_getElem j1]
      · exact .inr (.inl (List.drop_of_length_le (by omega)))
    · rcases hc with ⟨_, h, _⟩ | ⟨_, h, _⟩
      · exact .inr (.inl (List.drop_of_length_le (by omega)))
      · exact .inl (by rw [show s - a = 0 by omega, List.take_zero])
  · by_cases hsh : s < hi
    · by_cases hm2 : s < m
      · by_cases he : m < n - s
        · have k1 := hg s (Nat.le_refl _) hsh
          have j1 : s - a < A.length := by omega
          have j2 : n - 1 - s - m < B.length := by omega
          rw [getA _ j1, getB (n - 1 - s) (by omega) j2] at k1
          refine .inr (.inr ⟨_, A.drop (s - a + 1), B.take (n - 1 - s - m), _, List.drop_eq_getElem_cons j1, ?_, k1⟩)
          rw [show n - s - m = n - 1 - s - m + 1 by omega, List.take_succ_eq_append_getElem j2]
        · exact .inr (.inl (by rw [show n - s - m = 0 by omega, List.take_zero]))
      · exact .inl (List.drop_of_length_le (by omega))
    · rcases hc with ⟨_, _, h⟩ | ⟨_, _, h⟩
      · exact .inr (.inl (by rw [show n - s - m = 0 by omega, List.take_zero]))
      · exact .inl (List.drop_of_length_le (by omega))

end Go.Proofs.YtipemmjbgegmfaaGreatDoor

/- slices.SortStableFunc: two runs are merged, the general case: the walk. -/
namespace Go.Proofs.YtipemmjbgegmfaaGreatDoor
open Go.RowKit Go.Proofs.YtipemmjbgegmfaaGreatDoor.Stb
variable {W : World} {g N D : Nat} {P S : List Nat} {c : FuncId} {cb : Value} {cls : Nat → Nat} {r : Nat → Nat → Int}

/-- What merging is to do, of runs of at most so many. -/
def SymOk (W : World) (g N D : Nat) (P S : List Nat) (c : FuncId) (cb : Value) (cls : Nat → Nat) (o len cap sz : Nat) : Prop :=
  ∀ (X A B Z : List Nat) (a m b : Nat) (w : World), A.length + B.length < sz → Pat W g N D P S (X ++ (A ++ (B ++ Z))) w → len = (X ++ (A ++ (B ++ Z))).length → a = X.length → m = a + A.length → b = m + B.length → 0 < A.length → 0 < B.length → srt cls A → srt cls B →
    Calls Tryz.prog 126 #[.slice (some ⟨g, o, none⟩) len cap, .int .i64 (a : Int), .int .i64 (m : Int), .int .i64 (b : Int), .func (.func c) #[] #[cb]] w fun e w' => e = .returned (.tuple #[]) ∧ ∃ R, Mg cls A B R ∧ Pat W g N D P S (X ++ (R ++ Z)) w'

/-- Between two rounds of the search. -/
def SymI (W : World) (g N D : Nat) (P S : List Nat) (cls : Nat → Nat) (X A B Z : List Nat) (a p lo hi : Nat) (s0 r0 : Value) (wr : World) : Prop :=
  ∃ s q : Nat, s0 = .int .i64 (s : Int) ∧ r0 = .int .i64 (q : Int) ∧ lo ≤ s ∧ s ≤ q ∧ q ≤ hi ∧ Hid (∀ k, lo ≤ k → k < s → cls ((A ++ B).getD (k - a) 0) ≤ cls ((A ++ B).getD (p + 1 - 1 - k - a) 0)) ∧ Hid (∀ k, q ≤ k → k < hi → cls ((A ++ B).getD (p + 1 - 1 - k - a) 0) < cls ((A ++ B).getD (k - a) 0)) ∧ Hid (Pat W g N D P S (X ++ ((A ++ B) ++ Z)) wr)

theorem sym_mono {A B : List Nat} {a m b : Nat} (hm : m = a + A.length) (hb : b = m + B.length) (ha : srt cls A) (hB : srt cls B) :
    (∀ i j, a ≤ i → i ≤ j → j < m → cls ((A ++ B).getD (i - a) 0) ≤ cls ((A ++ B).getD (j - a) 0)) ∧ ∀ i j, m ≤ i → i ≤ j → j < b → cls ((A ++ B).getD (i - a) 0) ≤ cls ((A ++ B).getD (j - a) 0) := by
  have getA : ∀ k (h : k - a < A.length), (A ++ B).getD (k - a) 0 = A[k - a] := fun k h => by
    rw [List.getD_eq_getElem?_getD, List.getElem?_append_left h, List.getElem?_eq_getElem h]; rfl
  have getB : ∀ k (h0 : m ≤ k) (h : k - m < B.length), (A ++ B).getD (k - a) 0 = B[k - m] := fun k h0 h => by
    rw [List.getD_eq_getElem?_getD, List.getElem?_append_right (by omega), show k - a - A.length = k - m by omega, List.getElem?_eq_getElem h]; rfl
  constructor
  · intro i j h1 h2 h3
    rw [getA i (by omega), getA j (by omega)]
    exact srt_get ha (by omega) (by omega)
  · intro i j h1 h2 h3
    rw [getB i (by omega) (by omega), getB j (by omega) (by omega)]
    exact srt_get hB (by omega) (by omega)

set_option maxRecDepth 100000 in
set_option maxHeartbeats 6400000 in
theorem merge_gen (K : CmpOk c cb W N cls r) (o len cap sz : Nat) (IH : SymOk W g N D P S c cb cls o len cap sz) (ho : o = P.length) (hN : N ≤ 4611686018427387904)
    (X A B Z : List Nat) (a m b : Nat) (w : World) (hsz : A.length + B.length = sz) (h : Pat W g N D P S (X ++ (A ++ (B ++ Z))) w) (hlen : len = (X ++ (A ++ (B ++ Z))).length)
    (ha : a = X.length) (hm : m = a + A.length) (hb : b = m + B.length) (hA : 1 < A.length) (hB : 1 < B.length) (hsA : srt cls A) (hsB : srt cls B) :
    Calls Tryz.prog 126 #[.slice (some ⟨g, o, none⟩) len cap, .int .i64 (a : Int), .int .i64 (m : Int), .int .i64 (b : Int), .func (.func c) #[] #[cb]] w fun e w' => e = .returned (.tuple #[]) ∧ ∃ R, Mg cls A B R ∧ Pat W g N D P S (X ++ (R ++ Z)) w' := by
  have hlt := h.lt
  have hlN : P.length + len ≤ N := by rw [hlen]; exact hlt
  have hll : len = b + Z.length := by rw [hlen, hb, hm, ha]; simp; omega
  have hoN : o + len ≤ 4611686018427387904 := by omega
  have hbl : b ≤ len := by omega
  have ham : a + 1 < m := by omega
  have hmb : m + 1 < b := by omega
  have hn1 : ((m : Int) - (a : Int) == 1) = false := beq_eq_false_iff_ne.2 (by omega)
  have hn2 : ((b : Int) - (m : Int) == 1) = false := beq_eq_false_iff_ne.2 (by omega)
  obtain ⟨mid, hmid⟩ : ∃ mid, mid = (a + b) / 2 := ⟨_, rfl⟩
  have hmi : ((a : Int) + (b : Int)) / 2 = (mid : Int) := by omega
  obtain ⟨p, hp⟩ : ∃ p, mid + m = p + 1 := ⟨mid + m - 1, by omega⟩
  have hnn : (mid : Int) + (m : Int) = (p : Int) + 1 := by omega
  have hpp : IntKind.i64.wrap (p : Int) = (p : Int) := IntWalk.i64_in _ (by omega)
  obtain ⟨lo, hi, hcase, hlo1⟩ : ∃ lo hi : Nat, ((mid < m ∧ lo + b = p + 1 ∧ hi = mid) ∨ (m ≤ mid ∧ lo = a ∧ hi = m)) ∧ lo ≤ hi := by
    by_cases h : mid < m
    · exact ⟨p + 1 - b, mid, .inl ⟨h, by omega, rfl⟩, by omega⟩
    · exact ⟨a, m, .inr ⟨by omega, rfl, rfl⟩, by omega⟩
  have F := Lib.hid (fun s h1 h2 hl hg => sym_found (cls := cls) (A := A) (B := B) (a := a) (m := m) (b := b) (mid := mid) (n := p + 1) (lo := lo) (hi := hi) (s := s) hm hb hmid hp.symm hcase h1 h2 hl hg hsA hsB)
  have HIN := Lib.hid (fun k (h1 : lo ≤ k) (h2 : k < hi) => show a ≤ k ∧ k < m ∧ k ≤ p ∧ m ≤ p - k ∧ p - k < b from by omega)
  have HI2 := Lib.hid (show lo ≤ hi ∧ a ≤ lo ∧ hi ≤ m ∧ b ≤ p + 1 - lo + (p + 1) ∧ hi ≤ p + 1 from by omega)
  have HCS := Lib.hid (show (mid < m ∧ lo + b = p + 1 ∧ hi = mid) ∨ (m ≤ mid ∧ lo = a ∧ hi = m) from hcase)
  have MO := Lib.hid (sym_mono (cls := cls) hm hb hsA hsB)
  have HCELL := Lib.hid (fun k w' (hat : Pat W g N D P S (X ++ ((A ++ B) ++ Z)) w') (h1 : a ≤ k) (h2 : k < b) => show w'.cell? ⟨g, o + k, none⟩ = some (.int .i64 (((A ++ B).getD (k - a) 0 : Nat) : Int)) from hat.at_ (t := k - a) (by rw [List.length_append]; omega) (by omega))
  have H := Lib.hid h
  have Ho := Lib.hid ho
  have Ha := Lib.hid ha
  have Hm := Lib.hid hm
  have Hb := Lib.hid hb
  have Hmid := Lib.hid hmid
  have Hp := Lib.hid hp
  have HE := Lib.hid K.enter
  have HC := Lib.hid K.call
  have HL := Lib.hid K.less
  have HIH := Lib.hid IH
  have HSZ := Lib.hid hsz
  have HLEN := Lib.hid (show len = X.length + A.length + B.length + Z.length by omega)
  have hmidb : mid ≤ b := by omega
  have hpb : p + 1 ≤ b + b := by omega
  have hpa : m ≤ p := by omega
  have hps : p < 9223372036854775807 := by omega
  have hsAB := Lib.hid (And.intro hsA hsB)
  clear h ho ha hb hlen hll hlN hlt K hm hA hB hmid hp IH hsz hsA hsB
  go_enter Tryz.func126, Tryz.ntmps126
  rcases hcase with ⟨q1, q2, q3⟩ | ⟨q1, q2, q3⟩
  case' inl =>
    have q4 : (p : Int) + 1 - (b : Int) = (lo : Int) := by omega
    have Q3 := Lib.hid q3
    have q5 : decide (mid < m) = true := decide_eq_true (by omega)
    clear q2 q3
  case' inr =>
    have q5 : decide (mid < m) = false := decide_eq_false (by omega)
    have Q2 := Lib.hid q2
    have Q3 := Lib.hid q3
    clear q2 q3
  all_goals
    go_wp2_with fail
    clear hmi
    go_loopw [20, 21] (fun s0 r0 wr => SymI W g N D P S cls X A B Z a p lo hi s0 r0 wr) (fun s0 r0 _ => (intOf r0).toNat - (intOf s0).toNat)
    case atStart => exact ⟨lo, hi, by first | rfl | rw [Q2.out], by rw [Q3.out], Nat.le_refl _, hlo1, Nat.le_refl _, Lib.hid (fun k h1 h2 => by omega), Lib.hid (fun k h1 h2 => by omega), Lib.hid (by have := H.out; simpa using this)⟩
    case round =>
      obtain ⟨s, q, rfl, rfl, hs1, hs2, hs3, hl, hg, hat⟩ := hrel
      clear H
      by_cases hsq : s < q
      · obtain ⟨cc, he, hc1, hc2⟩ : ∃ cc : Nat, ((s : Int) + (q : Int)) / 2 = (cc : Int) ∧ s ≤ cc ∧ cc < q := ⟨(s + q) / 2, by omega, by omega, by omega⟩
        obtain ⟨z1, z2, z3, z4, z5⟩ := HIN.out cc (by omega) (by omega)
        obtain ⟨d, hd⟩ : ∃ d, p - cc = d := ⟨_, rfl⟩
        rw [hd] at z4 z5
        have hdi : (p : Int) - (cc : Int) = (d : Int) := by omega
        have hdn : p + 1 - 1 - cc - a = d - a := by omega
        obtain ⟨x, hx⟩ : ∃ x, (A ++ B).getD (d - a) 0 = x := ⟨_, rfl⟩
        obtain ⟨y, hy⟩ : ∃ y, (A ++ B).getD (cc - a) 0 = y := ⟨_, rfl⟩
        have CF := Lib.hid (fun w' (u : Up wr w') => show w'.cell? ⟨g, o + d, none⟩ = some (.int .i64 (x : Int)) ∧ w'.cell? ⟨g, o + cc, none⟩ = some (.int .i64 (y : Int)) from
          ⟨by rw [← hx]; exact HCELL.out d w' (hat.out.go u) (by omega) z5, by rw [← hy]; exact HCELL.out cc w' (hat.out.go u) z1 (by omega)⟩)
        have hdl : d < len := by omega
        have hwd : IntKind.i64.wrap (d : Int) = (d : Int) := IntWalk.i64_in _ (by omega)
        have hcl : cc < len := by omega
        have hen := HE.out
        have HX := Lib.hid hx
        have HY := Lib.hid hy
        have HDN := Lib.hid hdn
        have HD := Lib.hid hd
        clear hx hy hdn hd
        go_wp2_with fail
        refine wp_region_pi [(0, false), (1, false), (2, false), (3, false), (4, false), (5, false), (6, false), (7, false), (8, false), (9, false), (10, false), (11, true), (12, false), (13, false)] (by kernel_rfl) (by kernel_rfl) (fun _ _ d _ _ h => by cases d <;> exact h) ?_
        ((with_reducible apply pi_take); (focus exact rfl); (focus exact rfl); (focus (intro w' u1; obtain ⟨cc1, cc2⟩ := CF.out w' (Up.of_drew u1); go_simp; try with_reducible rfl; done)); dsimp only [Act.put]; simp only [List.setIfInBounds_toArray, List.set_cons_succ, List.set_cons_zero])
        ((with_reducible apply pi_take); (focus exact rfl); (focus exact rfl); (focus (intro w' u1; obtain ⟨cc1, cc2⟩ := CF.out w' (Up.of_drew u1); go_simp; try with_reducible rfl; done)); dsimp only [Act.put]; simp only [List.setIfInBounds_toArray, List.set_cons_succ, List.set_cons_zero])
        ((with_reducible apply pi_take); (focus exact rfl); (focus exact rfl); (focus (intro w' u1; obtain ⟨cc1, cc2⟩ := CF.out w' (Up.of_drew u1); go_simp; try with_reducible rfl; done)); dsimp only [Act.put]; simp only [List.setIfInBounds_toArray, List.set_cons_succ, List.set_cons_zero])
        ((with_reducible apply pi_take); (focus exact rfl); (focus exact rfl); (focus (intro w' u1; obtain ⟨cc1, cc2⟩ := CF.out w' (Up.of_drew u1); go_simp; try with_reducible rfl; done)); dsimp only [Act.put]; simp only [List.setIfInBounds_toArray, List.set_cons_succ, List.set_cons_zero])
        ((with_reducible apply pi_take); (focus exact rfl); (focus exact rfl); (focus (intro w' u1; obtain ⟨cc1, cc2⟩ := CF.out w' (Up.of_drew u1); go_simp; try with_reducible rfl; done)); dsimp only [Act.put]; simp only [List.setIfInBounds_toArray, List.set_cons_succ, List.set_cons_zero])
        ((with_reducible apply pi_take); (focus exact rfl); (focus exact rfl); (focus (intro w' u1; obtain ⟨cc1, cc2⟩ := CF.out w' (Up.of_drew u1); go_simp; try with_reducible rfl; done)); dsimp only [Act.put]; simp only [List.setIfInBounds_toArray, List.set_cons_succ, List.set_cons_zero])
        ((with_reducible apply pi_take); (focus exact rfl); (focus exact rfl); (focus (intro w' u1; obtain ⟨cc1, cc2⟩ := CF.out w' (Up.of_drew u1); go_simp; try with_reducible rfl; done)); dsimp only [Act.put]; simp only [List.setIfInBounds_toArray, List.set_cons_succ, List.set_cons_zero])
        ((with_reducible apply pi_take); (focus exact rfl); (focus exact rfl); (focus (intro w' u1; obtain ⟨cc1, cc2⟩ := CF.out w' (Up.of_drew u1); go_simp; try with_reducible rfl; done)); dsimp only [Act.put]; simp only [List.setIfInBounds_toArray, List.set_cons_succ, List.set_cons_zero])
        ((with_reducible apply pi_take); (focus exact rfl); (focus exact rfl); (focus (intro w' u1; obtain ⟨cc1, cc2⟩ := CF.out w' (Up.of_drew u1); go_simp; try with_reducible rfl; done)); dsimp only [Act.put]; simp only [List.setIfInBounds_toArray, List.set_cons_succ, List.set_cons_zero])
        ((with_reducible apply pi_take); (focus exact rfl); (focus exact rfl); (focus (intro w' u1; obtain ⟨cc1, cc2⟩ := CF.out w' (Up.of_drew u1); go_simp; try with_reducible rfl; done)); dsimp only [Act.put]; simp only [List.setIfInBounds_toArray, List.set_cons_succ, List.set_cons_zero])
        ((with_reducible apply pi_take); (focus exact rfl); (focus exact rfl); (focus (intro w' u1; obtain ⟨cc1, cc2⟩ := CF.out w' (Up.of_drew u1); go_simp; try with_reducible rfl; done)); dsimp only [Act.put]; simp only [List.setIfInBounds_toArray, List.set_cons_succ, List.set_cons_zero])
        refine pi_make rfl rfl (fun K hK => ?_)
        go_simp
        refine (HC.out x y _ (by rw [← HX.out]; exact hat.out.at_lt (by rw [List.length_append]; have := Hb.out; have := Hm.out; omega)) (by rw [← HY.out]; exact hat.out.at_lt (by rw [List.length_append]; have := Hb.out; have := Hm.out; omega)) (hat.out.up.trans ((Up.refl _).drew))).mono ?_
        rintro e w3 ⟨rfl, hz⟩
        have HT := Lib.hid (hat.out.go (Up.of_drew hz))
        refine hK.out _ _ hz ?_
        clear hK K hz CF hen
        by_cases hless : cls x < cls y
        · have hr0 : r x y < 0 := (HL.out x y).2 hless
          have hr1 : decide (r x y < 0) = true := decide_eq_true hr0
          ((with_reducible apply pi_take); (focus exact rfl); (focus exact rfl); (focus (intro w' u1; go_simp; try with_reducible rfl; done)); dsimp only [Act.put]; simp only [List.setIfInBounds_toArray, List.set_cons_succ, List.set_cons_zero])
          ((with_reducible apply pi_take); (focus exact rfl); (focus exact rfl); (focus (intro w' u1; go_simp; try with_reducible rfl; done)); dsimp only [Act.put]; simp only [List.setIfInBounds_toArray, List.set_cons_succ, List.set_cons_zero])
          refine pi_done ?_
          go_wp2_with fail
          go_roundw
          case rel =>
            refine ⟨s, cc, rfl, by go_num, hs1, hc1, by omega, hl, Lib.hid (fun k h1 h2 => ?_), HT⟩
            have k1 := MO.out.1 cc k z1 h1 (by have := HIN.out k (by omega) h2; omega)
            have hk := HIN.out k (by omega) h2
            have hdd := HD.out
            have k2 := MO.out.2 (p - k) d (by omega) (by omega) z5
            rw [HX.out] at k2
            rw [HY.out] at k1
            rw [show p + 1 - 1 - k - a = p - k - a by omega]
            omega
          case measure => simp [intOf] <;> omega
        · have hr0 : ¬ r x y < 0 := fun h => hless ((HL.out x y).1 h)
          have hr1 : decide (r x y < 0) = false := decide_eq_false hr0
          ((with_reducible apply pi_take); (focus exact rfl); (focus exact rfl); (focus (intro w' u1; go_simp; try with_reducible rfl; done)); dsimp only [Act.put]; simp only [List.setIfInBounds_toArray, List.set_cons_succ, List.set_cons_zero])
          ((with_reducible apply pi_take); (focus exact rfl); (focus exact rfl); (focus (intro w' u1; go_simp; try with_reducible rfl; done)); dsimp only [Act.put]; simp only [List.setIfInBounds_toArray, List.set_cons_succ, List.set_cons_zero])
          refine pi_done ?_
          go_wp2_with fail
          go_roundw
          case rel =>
            refine ⟨cc + 1, q, by go_num, rfl, by omega, by omega, hs3, Lib.hid (fun k h1 h2 => ?_), hg, HT⟩
            have hk := HIN.out k h1 (by omega)
            have hdd := HD.out
            have k1 := MO.out.1 k cc (by omega) (by omega) z2
            have k2 := MO.out.2 d (p - k) z4 (by omega) (by omega)
            rw [HX.out] at k2
            rw [HY.out] at k1
            rw [show p + 1 - 1 - k - a = p - k - a by omega]
            omega
          case measure => simp [intOf] <;> omega
      · obtain rfl : s = q := by omega
        obtain ⟨A1, A2, B1, B2, rfl, rfl, eS, eN, hh1, hh2⟩ := F.out s hs1 hs3 hl.out hg.out
        obtain ⟨en, hen⟩ : ∃ en, p + 1 - s = en := ⟨_, rfl⟩
        rw [hen] at eN
        have hei : (p : Int) + 1 - (s : Int) = (en : Int) := by have := HI2.out; omega
        have fm := Hm.out
        have fb := Hb.out
        have fp := Hp.out
        have fa := Ha.out
        have fl := HLEN.out
        have fz := HSZ.out
        have fmm := Hmid.out
        simp only [List.length_append] at fm fb fl fz
        have fmid : mid = s + B1.length := by omega
        have fm' : m = s + A2.length := by omega
        have CR := Lib.hid (fun w' (hat : Pat W g N D P S ((X ++ A1) ++ (A2 ++ (B1 ++ (B2 ++ Z)))) w') (hc : s < m ∧ m < en) => rotate_run (X ++ A1) A2 B1 (B2 ++ Z) o len cap s m en (.func (.func c) #[] #[cb]) w' hat Ho.out (by simp; omega) (by simp; omega) fm' eN (by omega) (by omega) hN)
        have I1 := Lib.hid (fun w' (hat : Pat W g N D P S (X ++ (A1 ++ (B1 ++ (A2 ++ (B2 ++ Z))))) w') (hc : a < s ∧ s < mid) => HIH.out X A1 B1 (A2 ++ (B2 ++ Z)) a s mid w' (by omega) hat (by simp; omega) fa eS fmid (by omega) (by omega) (srt_app.1 hsAB.out.1).1 (srt_app.1 hsAB.out.2).1)
        have N1 := Lib.hid (fun (hc : ¬ (a < s ∧ s < mid)) => show Mg cls A1 B1 (A1 ++ B1) from by
          by_cases h0 : A1.length = 0
          · rw [List.eq_nil_of_length_eq_zero h0]; exact Mg.left_nil (srt_app.1 hsAB.out.2).1
          · rw [List.eq_nil_of_length_eq_zero (show B1.length = 0 by omega), List.append_nil]; exact Mg.right_nil (srt_app.1 hsAB.out.1).1)
        have I2 := Lib.hid (fun (R1 : List Nat) w' (hat : Pat W g N D P S ((X ++ R1) ++ (A2 ++ (B2 ++ Z))) w') (hR : R1.length = A1.length + B1.length) (hc : mid < en ∧ en < b) => HIH.out (X ++ R1) A2 B2 Z mid en b w' (by omega) hat (by simp; omega) (by simp; omega) (by omega) (by omega) (by omega) (by omega) (srt_app.1 hsAB.out.1).2.1 (srt_app.1 hsAB.out.2).2.1)
        have N2 := Lib.hid (fun (hc : ¬ (mid < en ∧ en < b)) => show Mg cls A2 B2 (A2 ++ B2) from by
          by_cases h0 : A2.length = 0
          · rw [List.eq_nil_of_length_eq_zero h0]; exact Mg.left_nil (srt_app.1 hsAB.out.2).2.1
          · rw [List.eq_nil_of_length_eq_zero (show B2.length = 0 by omega), List.append_nil]; exact Mg.right_nil (srt_app.1 hsAB.out.1).2.1)
        have NR := Lib.hid (fun (hc : ¬ (s < m ∧ m < en)) => show X ++ ((A1 ++ A2 ++ (B1 ++ B2)) ++ Z) = X ++ (A1 ++ (B1 ++ (A2 ++ (B2 ++ Z)))) from by
          by_cases h0 : A2.length = 0
          · rw [List.eq_nil_of_length_eq_zero h0]; simp
          · rw [List.eq_nil_of_length_eq_zero (show B1.length = 0 by omega)]; simp)
        have HH1 := Lib.hid hh1
        have HH2 := Lib.hid hh2
        have b1 : en ≤ b := by omega
        have b2 : s ≤ p := by omega
        clear fm fb fp fa fl fz fmid fm' fmm eS eN hen hl hg F MO HCELL hh1 hh2
        by_cases c0 : s < m ∧ m < en
        · have c0a := c0.1
          have c0b := c0.2
          go_wp2_with fail
          all_goals
            refine (CR.out _ (by have := hat.out; simpa using this) c0).mono ?_
            rintro e w4 ⟨rfl, h4⟩
            have AT4 := Lib.hid (show Pat W g N D P S (X ++ (A1 ++ (B1 ++ (A2 ++ (B2 ++ Z))))) w4 from by simpa using h4)
            clear h4 hat
            by_cases c1 : a < s ∧ s < mid
            · have c1a := c1.1
              have c1b := c1.2
              go_wp2_with fail
              all_goals
                refine (I1.out _ (by have := AT4.out; simpa using this) c1).mono ?_
                rintro e w5 ⟨rfl, R1, hM1, h5⟩
                have AT5 := Lib.hid h5
                have M5 := Lib.hid hM1
                clear h5 hM1 AT4
                by_cases c2 : mid < en ∧ en < b
                · have c2a := c2.1
                  have c2b := c2.2
                  go_wp2_with fail
                  all_goals
                    refine (I2.out R1 _ (by have := AT5.out; simpa using this) (by have := M5.out.2.len; simpa using this) c2).mono ?_
                    rintro e w6 ⟨rfl, R2, hM2, h6⟩
                    go_wp2_with fail
                    go_end0
                    exact ⟨rfl, R1 ++ R2, Mg.halves HH1.out HH2.out hsAB.out.1 hsAB.out.2 M5.out hM2, by simpa using h6⟩
                · go_wp2_with fail
                  all_goals
                    go_end0
                    exact ⟨rfl, R1 ++ (A2 ++ B2), Mg.halves HH1.out HH2.out hsAB.out.1 hsAB.out.2 M5.out (N2.out c2), by have := AT5.out; simpa using this⟩
            · have M5 := Lib.hid (N1.out c1)
              by_cases c2 : mid < en ∧ en < b
              · have c2a := c2.1
                have c2b := c2.2
                go_wp2_with fail
                all_goals
                  refine (I2.out (A1 ++ B1) _ (by have := AT4.out; simpa using this) (by simp) c2).mono ?_
                  rintro e w6 ⟨rfl, R2, hM2, h6⟩
                  go_wp2_with fail
                  go_end0
                  exact ⟨rfl, (A1 ++ B1) ++ R2, Mg.halves HH1.out HH2.out hsAB.out.1 hsAB.out.2 M5.out hM2, by simpa using h6⟩
              · go_wp2_with fail
                all_goals
                  go_end0
                  exact ⟨rfl, (A1 ++ B1) ++ (A2 ++ B2), Mg.halves HH1.out HH2.out hsAB.out.1 hsAB.out.2 M5.out (N2.out c2), by have := AT4.out; simpa using this⟩
        · have ATN := Lib.hid (show Pat W g N D P S (X ++ (A1 ++ (B1 ++ (A2 ++ (B2 ++ Z))))) wr from by
            have := hat.out
            rwa [NR.out c0] at this)
          clear hat
          by_cases c1 : a < s ∧ s < mid
          · have c1a := c1.1
            have c1b := c1.2
            go_wp2_with fail
            all_goals
              refine (I1.out _ (by have := ATN.out; simpa using this) c1).mono ?_
              rintro e w5 ⟨rfl, R1, hM1, h5⟩
              have AT5 := Lib.hid h5
              have M5 := Lib.hid hM1
              clear h5 hM1 ATN
              by_cases c2 : mid < en ∧ en < b
              · have c2a := c2.1
                have c2b := c2.2
                go_wp2_with fail
                all_goals
                  refine (I2.out R1 _ (by have := AT5.out; simpa using this) (by have := M5.out.2.len; simpa using this) c2).mono ?_
                  rintro e w6 ⟨rfl, R2, hM2, h6⟩
                  go_wp2_with fail
                  go_end0
                  exact ⟨rfl, R1 ++ R2, Mg.halves HH1.out HH2.out hsAB.out.1 hsAB.out.2 M5.out hM2, by simpa using h6⟩
              · go_wp2_with fail
                all_goals
                  go_end0
                  exact ⟨rfl, R1 ++ (A2 ++ B2), Mg.halves HH1.out HH2.out hsAB.out.1 hsAB.out.2 M5.out (N2.out c2), by have := AT5.out; simpa using this⟩
          · have M5 := Lib.hid (N1.out c1)
            by_cases c2 : mid < en ∧ en < b
            · have c2a := c2.1
              have c2b := c2.2
              go_wp2_with fail
              all_goals
                refine (I2.out (A1 ++ B1) _ (by have := ATN.out; simpa using this) (by simp) c2).mono ?_
                rintro e w6 ⟨rfl, R2, hM2, h6⟩
                go_wp2_with fail
                go_end0
                exact ⟨rfl, (A1 ++ B1) ++ R2, Mg.halves HH1.out HH2.out hsAB.out.1 hsAB.out.2 M5.out hM2, by simpa using h6⟩
            · go_wp2_with fail
              all_goals
                go_end0
                exact ⟨rfl, (A1 ++ B1) ++ (A2 ++ B2), Mg.halves HH1.out HH2.out hsAB.out.1 hsAB.out.2 M5.out (N2.out c2), by have := ATN.out; simpa using this⟩

end Go.Proofs.YtipemmjbgegmfaaGreatDoor

/- slices.SortStableFunc: two runs are merged, however long. -/
namespace Go.Proofs.YtipemmjbgegmfaaGreatDoor
open Go.RowKit Go.Proofs.YtipemmjbgegmfaaGreatDoor.Stb
variable {W : World} {g N D : Nat} {P S : List Nat} {c : FuncId} {cb : Value} {cls : Nat → Nat} {r : Nat → Nat → Int}

theorem sym_all (K : CmpOk c cb W N cls r) (o len cap : Nat) (ho : o = P.length) (hN : N ≤ 4611686018427387904) : ∀ sz, SymOk W g N D P S c cb cls o len cap sz
  | 0 => fun _ _ _ _ _ _ _ _ h => absurd h (Nat.not_lt_zero _)
  | sz + 1 => fun X A B Z a m b w hsz h hlen ha hm hb hA hB sA sB => by
    by_cases h1 : A.length = 1
    · obtain ⟨x, rfl⟩ := List.length_eq_one_iff.1 h1
      have := merge_left K X x B Z o len cap a m b w (by simpa using h) ho (by simpa using hlen) ha (by simpa using hm) (by simp at hm; omega) hN sB
      exact this
    by_cases h2 : B.length = 1
    · obtain ⟨x, rfl⟩ := List.length_eq_one_iff.1 h2
      exact merge_right K X A x Z o len cap a m b w (by simpa using h) ho (by simpa using hlen) ha hm (by simpa using hb) h1 hN sA
    exact merge_gen K o len cap (A.length + B.length) (fun X' A' B' Z' a' m' b' w' hlt => sym_all K o len cap ho hN sz X' A' B' Z' a' m' b' w' (by omega)) ho hN X A B Z a m b w rfl h hlen ha hm hb (by omega) (by omega) sA sB

end Go.Proofs.YtipemmjbgegmfaaGreatDoor

/- slices.SortStableFunc: blocks are sorted, then merged. -/
namespace Go.Proofs.YtipemmjbgegmfaaGreatDoor
open Go.RowKit Go.Proofs.YtipemmjbgegmfaaGreatDoor.Stb
section plain
variable {cls : Nat → Nat}

theorem split_at {L : List Nat} {a n : Nat} (h : a + n ≤ L.length) : ∃ p R z, L = p ++ (R ++ z) ∧ p.length = a ∧ R.length = n :=
  ⟨L.take a, (L.drop a).take n, (L.drop a).drop n, by rw [List.take_append_drop, List.take_append_drop], by rw [List.length_take]; omega, by rw [List.length_take, List.length_drop]; omega⟩

theorem first_step {L L0 : List Nat} {t a n : Nat} (hA : Arr cls L L0) (hU : upto cls 20 t L) (ha : a = t * 20) (hn : n = 20 ∨ (a + n = L.length ∧ n ≤ 20)) (hl : a + n ≤ L.length) :
    ∃ p R z, L = p ++ (R ++ z) ∧ p.length = a ∧ R.length = n ∧ ∀ R', srt cls R' → Arr cls R' R → Arr cls (p ++ (R' ++ z)) L0 ∧ upto cls 20 (t + 1) (p ++ (R' ++ z)) := by
  obtain ⟨p, R, z, rfl, hp, hR⟩ := split_at hl
  refine ⟨p, R, z, rfl, hp, hR, fun R' hs hR' => ⟨((Arr.refl cls p).app (hR'.app (Arr.refl cls z))).trans hA, ?_⟩⟩
  have hlen := hR'.len
  rw [← List.append_assoc] at hU ⊢
  refine upto_step hU (hp.trans ha) ?_ hs
  rcases hn with hn | ⟨hn, h20⟩
  · exact .inl (by omega)
  · refine .inr ⟨List.eq_nil_of_length_eq_zero ?_, by omega⟩
    rw [List.length_append, List.length_append] at hn
    omega

theorem merge_step {L L0 : List Nat} {bs t a nb : Nat} (hA : Arr cls L L0) (hU : upto cls (2 * bs) t L) (hB : blk cls bs (2 * t) L) (ha : a = t * (2 * bs)) (hn : nb = bs ∨ (a + bs + nb = L.length ∧ nb ≤ bs)) (hl : a + bs + nb ≤ L.length) :
    ∃ p A B z, L = p ++ (A ++ (B ++ z)) ∧ p.length = a ∧ A.length = bs ∧ B.length = nb ∧ srt cls A ∧ srt cls B ∧
      ∀ R, Mg cls A B R → Arr cls (p ++ (R ++ z)) L0 ∧ upto cls (2 * bs) (t + 1) (p ++ (R ++ z)) ∧ blk cls bs (2 * (t + 1)) (p ++ (R ++ z)) := by
  obtain ⟨p, R0, z, rfl, hp, hR⟩ := split_at (a := a) (n := bs + nb) (show a + (bs + nb) ≤ L.length by omega)
  obtain ⟨y, A, B, hAB, hy, hAl⟩ := split_at (L := R0) (a := 0) (n := bs) (by omega)
  obtain rfl := List.eq_nil_of_length_eq_zero hy
  rw [List.nil_append] at hAB
  subst hAB
  have hBl : B.length = nb := by rw [List.length_append] at hR; omega
  have e1 : 2 * t * bs = p.length := by rw [hp, ha, Nat.mul_comm 2 t, Nat.mul_assoc]
  have e2 : (2 * t + 1) * bs = p.length + bs := by rw [Nat.add_mul, e1, Nat.one_mul]
  have sA : srt cls A := by
    have := hB (2 * t) (Nat.le_refl _)
    rw [e1, drop_right (Nat.le_refl _), Nat.sub_self, List.drop_zero, List.append_assoc, List.take_append_of_le_length (by omega), List.take_of_length_le (by omega)] at this
    exact this
  have sB : srt cls B := by
    have := hB (2 * t + 1) (by omega)
    rw [e2, drop_right (by omega), show p.length + bs - p.length = bs by omega, List.append_assoc, drop_right (by omega), show bs - A.length = 0 by omega, List.drop_zero] at this
    rcases hn with hn | ⟨hn, h20⟩
    · rw [List.take_append_of_le_length (by omega), List.take_of_length_le (by omega)] at this
      exact this
    · have hz : z = [] := List.eq_nil_of_length_eq_zero (by simp only [List.length_append] at hn; omega)
      rw [hz, List.append_nil, List.take_of_length_le (by omega)] at this
      exact this
  refine ⟨p, A, B, z, by rw [List.append_assoc], hp, hAl, hBl, sA, sB, fun R hM => ?_⟩
  have hlen := hM.2.len
  rw [List.length_append] at hlen
  rw [← List.append_assoc] at hU hB ⊢
  refine ⟨?_, ?_, ?_⟩
  · have := (((Arr.refl cls p).app hM.2).app (Arr.refl cls z))
    refine this.trans ?_
    rwa [List.append_assoc]
  · refine upto_step hU (hp.trans ha) ?_ hM.1
    rcases hn with hn | ⟨hn, h20⟩
    · exact .inl (by omega)
    · refine .inr ⟨List.eq_nil_of_length_eq_zero ?_, by omega⟩
      simp only [List.length_append] at hn
      omega
  · rcases hn with hn | ⟨hn, h20⟩
    · refine blk_step hB (by omega) (by rw [List.length_append]; omega) ?_
      rw [List.length_append, show 2 * (t + 1) = 2 * t + 1 + 1 by omega, Nat.add_mul, e2, Nat.one_mul]
      omega
    · intro k hk
      have : p.length + bs + bs ≤ k * bs := by
        have := Nat.mul_le_mul_right bs hk
        rw [show 2 * (t + 1) = 2 * t + 1 + 1 by omega, Nat.add_mul, e2, Nat.one_mul] at this
        exact this
      simp only [List.length_append] at hn
      rw [List.drop_of_length_le (by simp only [List.length_append]; omega), List.take_nil]
      exact srt_nil

theorem rest_step {L : List Nat} {bs t : Nat} (hU : upto cls (2 * bs) t L) (hB : blk cls bs (2 * t) L) (hl : L.length ≤ t * (2 * bs) + bs) : upto cls (2 * bs) (t + 1) L := by
  intro k hk
  by_cases e : k < t
  · exact hU k e
  · obtain rfl : k = t := by omega
    have := hB (2 * k) (Nat.le_refl _)
    rw [show 2 * k * bs = k * (2 * bs) by rw [Nat.mul_comm 2 k, Nat.mul_assoc], List.take_of_length_le (by rw [List.length_drop]; omega)] at this
    rw [List.take_of_length_le (by rw [List.length_drop]; omega)]
    exact this
theorem all_step {L : List Nat} {bs t : Nat} (hU : upto cls (2 * bs) (t + 1) L) (hl : L.length ≤ t * (2 * bs) + 2 * bs) : blk cls (bs * 2) 0 L := by
  rw [Nat.mul_comm bs 2]
  exact blk_of_upto hU (by rw [Nat.add_mul, Nat.one_mul]; exact hl)
theorem upto_none {L : List Nat} {bs : Nat} : upto cls bs 0 L := fun _ h => absurd h (Nat.not_lt_zero _)
theorem blk_twice {L : List Nat} {bs : Nat} (h : blk cls bs 0 L) : blk cls bs (2 * 0) L := h
end plain

variable {W : World} {g N D : Nat} {P S : List Nat} {c : FuncId} {cb : Value} {cls : Nat → Nat} {r : Nat → Nat → Int}

set_option maxRecDepth 100000 in
set_option maxHeartbeats 6400000 in
theorem stable_fn (K : CmpOk c cb W N cls r) (L : List Nat) (o len cap : Nat) (w : World) (h : Pat W g N D P S L w) (ho : o = P.length) (hlen : len = L.length) (hN : N ≤ 1000000000) :
    Calls Tryz.prog 111 #[.slice (some ⟨g, o, none⟩) len cap, .int .i64 (len : Int), .func (.func c) #[] #[cb]] w fun e w' => e = .returned (.tuple #[]) ∧ ∃ R, srt cls R ∧ Arr cls R L ∧ Pat W g N D P S R w' := by
  have hlt := h.lt
  have hlN : len ≤ N := by omega
  have hlB : len ≤ 1000000000 := by omega
  have H := Lib.hid h
  have HLEN := Lib.hid hlen
  have CI := Lib.hid (fun (X R Z : List Nat) (a b : Nat) w' (h : Pat W g N D P S (X ++ (R ++ Z)) w') (e : len = (X ++ (R ++ Z)).length) (ha : a = X.length) (hb : b = a + R.length) => insertion_run K X R Z o len cap a b w' h ho e ha hb (by omega))
  have CM := Lib.hid (fun (X A B Z : List Nat) (a m b : Nat) w' (h : Pat W g N D P S (X ++ (A ++ (B ++ Z))) w') (e : len = (X ++ (A ++ (B ++ Z))).length) (ha : a = X.length) (hm : m = a + A.length) (hb : b = m + B.length) (hA : 0 < A.length) (hB : 0 < B.length) (sA : srt cls A) (sB : srt cls B) =>
    sym_all K o len cap ho (by omega) (A.length + B.length + 1) X A B Z a m b w' (Nat.lt_succ_self _) h e ha hm hb hA hB sA sB)
  clear h ho hlen hlt K hN hlN
  go_enter Tryz.func111, Tryz.ntmps111
  go_wp2_with fail
  go_loopw [7, 8] (fun i j wr => ∃ (t a : Nat) (L1 : List Nat), i = .int .i64 (a : Int) ∧ j = .int .i64 ((a : Int) + 20) ∧ a ≤ len ∧ Hid (a = t * 20) ∧ Hid (L1.length = len) ∧ Hid (Arr cls L1 L) ∧ Hid (upto cls 20 t L1) ∧ Hid (Pat W g N D P S L1 wr)) (fun i _ _ => len + 20 - (intOf i).toNat)
  case atStart => exact ⟨0, 0, L, rfl, rfl, Nat.zero_le _, Lib.hid rfl, Lib.hid HLEN.out.symm, Lib.hid (Arr.refl _ _), Lib.hid upto_none, H⟩
  case round =>
    obtain ⟨t, a, L1, rfl, rfl, hal, ha, hl1, hArr, hU, hat⟩ := hrel
    clear H
    by_cases hab : a + 20 ≤ len
    · obtain ⟨p, R, z, rfl, hp, hR, hnext⟩ := first_step (n := 20) hArr.out hU.out ha.out (.inl rfl) (by rw [hl1.out]; exact hab)
      have hdl : decide ((a : Int) + 20 ≤ (len : Int)) = true := decide_eq_true (by omega)
      have HP := Lib.hid hp
      have HR := Lib.hid hR
      have HX := Lib.hid hnext
      clear hp hR hnext
      go_wp2_with fail
      refine (CI.out p R z a (a + 20) _ hat.out hl1.out.symm HP.out.symm (by rw [HR.out])).mono ?_
      rintro e w2 ⟨rfl, R', hs, hA2, h2⟩
      have H2 := Lib.hid h2
      have HL2 := Lib.hid hA2.len
      have HX2 := Lib.hid (HX.out R' hs hA2)
      clear h2 hs hA2 hat
      go_wp2_with fail
      go_roundw
      case rel =>
        refine ⟨t + 1, a + 20, p ++ (R' ++ z), by go_num, by go_num, hab, Lib.hid (by have := ha.out; omega), Lib.hid ?_, Lib.hid HX2.out.1, Lib.hid HX2.out.2, H2⟩
        have h1 := hl1.out
        have h2 := HL2.out
        simp only [List.length_append] at h1 ⊢
        omega
      case measure => simp [intOf] <;> omega
    · obtain ⟨p, R, z, rfl, hp, hR, hnext⟩ := first_step (n := len - a) hArr.out hU.out ha.out (.inr ⟨by rw [hl1.out]; omega, by omega⟩) (by rw [hl1.out]; omega)
      have hdl : decide ((a : Int) + 20 ≤ (len : Int)) = false := decide_eq_false (by omega)
      have HP := Lib.hid hp
      have HR := Lib.hid hR
      have HX := Lib.hid hnext
      have HTL := Lib.hid (show len ≤ (t + 1) * 20 by have := ha.out; omega)
      clear hp hR hnext ha hab
      go_wp2_with fail
      refine (CI.out p R z a len _ hat.out hl1.out.symm HP.out.symm (by rw [HR.out]; omega)).mono ?_
      rintro e w2 ⟨rfl, R', hs, hA2, h2⟩
      obtain ⟨hA3, hU3⟩ := HX.out R' hs hA2
      have hl3 : (p ++ (R' ++ z)).length = len := by
        have h1 := hl1.out
        have h2 := hA2.len
        simp only [List.length_append] at h1 ⊢
        omega
      have hB3 : blk cls 20 0 (p ++ (R' ++ z)) := blk_of_upto hU3 (by rw [hl3]; exact HTL.out)
      generalize p ++ (R' ++ z) = L2 at *
      have H2 := Lib.hid h2
      have HL3 := Lib.hid hl3
      have HA3 := Lib.hid hA3
      have HB3 := Lib.hid hB3
      clear h2 hl3 hA3 hU3 hB3 hs hA2 hat HX HP HR hl1 hArr hU HTL
      go_wp2_with fail
      rename World => wo
      go_loopw [6, 7, 8] (fun k i j wr => ∃ (bs i0 j0 : Nat) (L1 : List Nat), k = .int .i64 (bs : Int) ∧ i = .int .i64 (i0 : Int) ∧ j = .int .i64 (j0 : Int) ∧ 20 ≤ bs ∧ bs ≤ 2 * len + 20 ∧ Hid (L1.length = len) ∧ Hid (Arr cls L1 L) ∧ Hid (blk cls bs 0 L1) ∧ Hid (Pat W g N D P S L1 wr)) (fun k _ _ _ => len - (intOf k).toNat)
      case atStart => exact ⟨20, a, a + 20, L2, rfl, rfl, by go_num, Nat.le_refl _, by omega, HL3, HA3, HB3, H2⟩
      case round =>
        obtain ⟨bs, i0, j0, L3, rfl, rfl, rfl, hb20, hbl, hl3, hArr, hB, hat⟩ := hrel
        clear H2 HL3 HA3 HB3
        by_cases hbn : bs < len
        · go_wp2_with fail
          rename World => wo2
          go_loopw [7, 8] (fun i j wr => ∃ (t a b : Nat) (L1 : List Nat), i = .int .i64 (a : Int) ∧ j = .int .i64 (b : Int) ∧ a ≤ len ∧ b ≤ a + 2 * bs ∧ a + 2 * bs ≤ b ∧ Hid (a = t * (2 * bs)) ∧ Hid (L1.length = len) ∧ Hid (Arr cls L1 L) ∧ Hid (upto cls (2 * bs) t L1) ∧ Hid (blk cls bs (2 * t) L1) ∧ Hid (Pat W g N D P S L1 wr)) (fun i _ _ => len + 20 - (intOf i).toNat)
          case atStart => exact ⟨0, 0, 2 * bs, L3, rfl, by go_num, Nat.zero_le _, by omega, by omega, Lib.hid (by rw [Nat.zero_mul]), hl3, hArr, Lib.hid upto_none, Lib.hid (blk_twice hB.out), hat⟩
          case round =>
            obtain ⟨t, a, b, L4, rfl, rfl, hal, hb1, hb2, ha, hl4, hArr4, hU4, hB4, hat4⟩ := hrel
            clear hat hArr hB
            obtain ⟨m, hm⟩ : ∃ m, m = a + bs := ⟨_, rfl⟩
            have hmi : (a : Int) + (bs : Int) = (m : Int) := by omega
            have hm1 : m ≤ a + bs := by omega
            have hm2 : a + bs ≤ m := by omega
            have HM := Lib.hid hm
            clear hm
            by_cases hbn2 : b ≤ len
            · obtain ⟨p, A, B, z, rfl, hp, hAl, hBl, sA, sB, hnext⟩ := merge_step (nb := bs) hArr4.out hU4.out hB4.out ha.out (.inl rfl) (by rw [hl4.out]; omega)
              have C := Lib.hid (CM.out p A B z a m b _ hat4.out hl4.out.symm hp.symm (by rw [hAl]; exact HM.out) (by omega) (by omega) (by omega) sA sB)
              have HX := Lib.hid hnext
              have HPL := Lib.hid (And.intro hp (And.intro hAl hBl))
              obtain ⟨b', hb'⟩ : ∃ b', b' = b + 2 * bs := ⟨_, rfl⟩
              have hbi : (b : Int) + 2 * (bs : Int) = (b' : Int) := by omega
              have hb1' : b' ≤ b + 2 * bs := by omega
              have hb2' : b + 2 * bs ≤ b' := by omega
              clear hp hAl hBl hnext hb' sA sB hat4
              go_wp2_with fail
              refine C.out.mono ?_
              rintro e w2 ⟨rfl, R', hM, h2⟩
              have H2 := Lib.hid h2
              have HL2 := Lib.hid hM.2.len
              have HX2 := Lib.hid (HX.out R' hM)
              clear h2 hM
              go_wp2_with fail
              go_roundw
              case rel =>
                refine ⟨t + 1, b, b', p ++ (R' ++ z), rfl, by go_num, hbn2, hb1', hb2', Lib.hid ?_, Lib.hid ?_, Lib.hid HX2.out.1, Lib.hid HX2.out.2.1, Lib.hid HX2.out.2.2, H2⟩
                · have := ha.out
                  rw [Nat.add_mul, Nat.one_mul]
                  omega
                · have h1 := hl4.out
                  have h2 := HL2.out
                  simp only [List.length_append] at h1 h2 ⊢
                  omega
              case measure => simp [intOf] <;> omega
            · by_cases hmn : m < len
              · obtain ⟨p, A, B, z, rfl, hp, hAl, hBl, sA, sB, hnext⟩ := merge_step (nb := len - m) hArr4.out hU4.out hB4.out ha.out (.inr ⟨by rw [hl4.out]; omega, by omega⟩) (by rw [hl4.out]; omega)
                have C := Lib.hid (CM.out p A B z a m len _ hat4.out hl4.out.symm hp.symm (by rw [hAl]; exact HM.out) (by omega) (by omega) (by omega) sA sB)
                have HX := Lib.hid hnext
                clear hp hAl hBl hnext sA sB hat4
                go_wp2_with fail
                refine C.out.mono ?_
                rintro e w2 ⟨rfl, R', hM, h2⟩
                have H2 := Lib.hid h2
                have HL2 := Lib.hid hM.2.len
                have HX2 := Lib.hid (HX.out R' hM)
                clear h2 hM
                go_wp2_with fail
                go_roundw
                case rel =>
                  refine ⟨bs * 2, a, b, p ++ (R' ++ z), by go_num, rfl, rfl, by omega, by omega, Lib.hid ?_, Lib.hid HX2.out.1, Lib.hid (all_step (t := t) HX2.out.2.1 ?_), H2⟩
                  · have h1 := hl4.out
                    have h2 := HL2.out
                    simp only [List.length_append] at h1 h2 ⊢
                    omega
                  · have h1 := hl4.out
                    have h2 := HL2.out
                    rw [← ha.out]
                    simp only [List.length_append] at h1 h2 ⊢
                    omega
                case measure => simp [intOf] <;> omega
              · go_wp2_with fail
                go_roundw
                case rel =>
                  refine ⟨bs * 2, a, b, L4, by go_num, rfl, rfl, by omega, by omega, hl4, hArr4, Lib.hid (all_step (t := t) (rest_step hU4.out hB4.out ?_) ?_), hat4⟩
                  · rw [← ha.out, hl4.out]; omega
                  · rw [← ha.out, hl4.out]; omega
                case measure => simp [intOf] <;> omega
        · go_wp2_with fail
          go_end0
          exact ⟨rfl, L3, blk_all hB.out (by rw [hl3.out]; omega), hArr.out, hat.out⟩

set_option maxRecDepth 100000 in
theorem sort_fn (K : CmpOk c cb W N cls r) (L : List Nat) (o len cap : Nat) (w : World) (h : Pat W g N D P S L w) (ho : o = P.length) (hlen : len = L.length) (hN : N ≤ 1000000000) :
    Calls Tryz.prog 93 #[.slice (some ⟨g, o, none⟩) len cap, .func (.func c) #[] #[cb]] w fun e w' => e = .returned (.tuple #[]) ∧ ∃ R, srt cls R ∧ Arr cls R L ∧ Pat W g N D P S R w' := by
  have C := Lib.hid (stable_fn K L o len cap w h ho hlen hN)
  clear h ho hlen K hN
  go_enter Tryz.func93, Tryz.ntmps93
  go_wp2_with fail
  refine C.out.mono ?_
  rintro e w2 ⟨rfl, h2⟩
  go_wp2_with fail
  go_end0
  exact ⟨rfl, h2⟩

end Go.Proofs.YtipemmjbgegmfaaGreatDoor
