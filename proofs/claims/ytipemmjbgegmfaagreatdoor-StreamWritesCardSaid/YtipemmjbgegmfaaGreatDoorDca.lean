/- Dca: one text of Dcr Dcl Daw. -/
import Derived.Test.YtipemmjbgegmfaaGreatDoorBas
import Derived.Test.YtipemmjbgegmfaaGreatDoorFur
import Derived.Test.YtipemmjbgegmfaaGreatDoorHga
import Derived.Test.YtipemmjbgegmfaaGreatDoorUpo

/- The document's full decompositions: what its functions answer. -/
namespace Go.Proofs.YtipemmjbgegmfaaGreatDoor
open Go.RowKit

theorem fulN_len : ∀ (n c : Nat), (fulN n c).length ≤ 4
  | 0, c => by unfold fulN; split <;> (try split) <;> simp
  | n + 1, c => by
    have h := full_len c
    by_cases hs : isS c = true
    · rw [fulN_S hs]; split <;> simp
    · have hs' : isS c = false := by simpa using hs
      by_cases hr : rowOf c = 0
      · rw [fulN_no hs' hr]; simp
      · have key : ∀ n k c, Ends k c → k ≤ 3 → isS c = false → (fulN n c).length ≤ k + 1 := fun n => by
          induction n with
          | zero => intro k c _ _ hs; unfold fulN; rw [if_neg (by rw [hs]; decide)]; simp
          | succ n ih =>
            intro k c h hk hs
            by_cases hx : rowOf c = 0
            · rw [fulN_no hs hx]; simp
            · cases k with
              | zero => exact absurd h hx
              | succ k =>
                rw [fulN_row hx, List.length_append]
                have := ih k (decA c) (h hx) (by omega) (not_S (row_p hx).a)
                split <;> simp <;> omega
        have := key (n + 1) 3 c (ends_three c) (by omega) hs'
        omega

set_option maxRecDepth 100000 in
theorem full_ref_n : ∀ (n c : Nat) (_ : n ≤ 6) (w : World), Calls Tryz.prog 123 #[.int .u32 (c : Int), .int .i64 (n : Int)] w (Gives (fulN n c) w) := by
  intro n
  induction n with
  | zero =>
    intro c hn w
    have c1 := split_ref c
    have c2 := decomp_ref c
    cases hs : isS c with
    | true =>
      rw [fulN_S hs]
      rw [hs] at c1
      clear hs
      by_cases ht : splT c = 0
      · rw [if_pos ht]
        rw [ht] at c1
        clear ht c2
        generalize splL c = x at *
        generalize splV c = y at *
        have hown := own_lit w [x, y] 2 rfl (by omega)
        have HO := Lib.hid hown
        clear hown
        go_enter Tryz.func123, Tryz.ntmps123
        go_wp2_with fail
        refine (c1 _).mono ?_
        rintro e w1 ⟨rfl, rfl⟩
        go_wp2_with fail
        go_ret
        exact Gives.of (n := 2) rfl HO.out ((Up.refl w).alloc _)
      · rw [if_neg ht]
        have hz : ((splT c : Int) == 0) = false := by simp; omega
        clear ht c2
        generalize splL c = x at *
        generalize splV c = y at *
        generalize splT c = z at *
        have hown := own_lit w [x, y, z] 3 rfl (by omega)
        have HO := Lib.hid hown
        clear hown
        go_enter Tryz.func123, Tryz.ntmps123
        go_wp2_with fail
        refine (c1 _).mono ?_
        rintro e w1 ⟨rfl, rfl⟩
        go_wp2_with fail
        go_ret
        exact Gives.of (n := 3) rfl HO.out ((Up.refl w).alloc _)
    | false =>
      have e0 : fulN 0 c = [c] := by unfold fulN; rw [if_neg (by rw [hs]; decide)]
      rw [e0]
      rw [hs] at c1
      clear hs e0
      generalize splL c = x at *
      generalize splV c = y at *
      generalize splT c = z at *
      generalize decA c = p at *
      generalize decB c = q at *
      generalize decOk c = ok at *
      go_enter Tryz.func123, Tryz.ntmps123
      go_wp2_with fail
      refine (c1 _).mono ?_
      rintro e w1 ⟨rfl, rfl⟩
      go_wp2_with fail
      refine (c2 _).mono ?_
      rintro e w1 ⟨rfl, hu⟩
      have hown := own_lit w1 [c] 1 rfl (by omega)
      have HO := Lib.hid (own_base hown hu.size)
      clear hown
      cases ok
      all_goals
        go_wp2_with fail
        go_ret
        exact Gives.of (n := 1) rfl HO.out (hu.alloc _)
  | succ n ih =>
    intro c hn w
    have c1 := split_ref c
    have c2 := decomp_ref c
    cases hs : isS c with
    | true =>
      rw [fulN_S hs]
      rw [hs] at c1
      clear hs
      by_cases ht : splT c = 0
      · rw [if_pos ht]
        rw [ht] at c1
        clear ht c2
        generalize splL c = x at *
        generalize splV c = y at *
        have hown := own_lit w [x, y] 2 rfl (by omega)
        have HO := Lib.hid hown
        clear hown
        go_enter Tryz.func123, Tryz.ntmps123
        go_wp2_with fail
        refine (c1 _).mono ?_
        rintro e w1 ⟨rfl, rfl⟩
        go_wp2_with fail
        go_ret
        exact Gives.of (n := 2) rfl HO.out ((Up.refl w).alloc _)
      · rw [if_neg ht]
        have hz : ((splT c : Int) == 0) = false := by simp; omega
        clear ht c2
        generalize splL c = x at *
        generalize splV c = y at *
        generalize splT c = z at *
        have hown := own_lit w [x, y, z] 3 rfl (by omega)
        have HO := Lib.hid hown
        clear hown
        go_enter Tryz.func123, Tryz.ntmps123
        go_wp2_with fail
        refine (c1 _).mono ?_
        rintro e w1 ⟨rfl, rfl⟩
        go_wp2_with fail
        go_ret
        exact Gives.of (n := 3) rfl HO.out ((Up.refl w).alloc _)
    | false =>
      have e0 : fulN (n + 1) c = if decOk c = true then (if decB c = 0 then fulN n (decA c) else fulN n (decA c) ++ fulN n (decB c)) else [c] := by
        conv => lhs; unfold fulN
        rw [if_neg (by rw [hs]; decide)]
      rw [e0]
      rw [hs] at c1
      clear hs e0
      have L1 := fulN_len n (decA c)
      have L2 := fulN_len n (decB c)
      have i1 := fun w => ih (decA c) (by omega) w
      have i2 := fun w => ih (decB c) (by omega) w
      clear ih
      generalize fulN n (decA c) = F at *
      generalize fulN n (decB c) = G at *
      generalize splL c = x at *
      generalize splV c = y at *
      generalize splT c = z at *
      generalize decA c = p at *
      generalize decB c = q at *
      generalize decOk c = ok at *
      have hnz : (((n : Int) + 1) == 0) = false := by simp; omega
      have hn1 : ((n + 1 : Nat) : Int) = (n : Int) + 1 := by omega
      rw [hn1]
      clear hn1
      cases ok with
      | false =>
        rw [if_neg Bool.false_ne_true]
        go_enter Tryz.func123, Tryz.ntmps123
        go_wp2_with fail
        refine (c1 _).mono ?_
        rintro e w1 ⟨rfl, rfl⟩
        go_wp2_with fail
        refine (c2 _).mono ?_
        rintro e w1 ⟨rfl, hu⟩
        have hown := own_lit w1 [c] 1 rfl (by omega)
        have HO := Lib.hid (own_base hown hu.size)
        clear hown
        go_wp2_with fail
        go_ret
        exact Gives.of (n := 1) rfl HO.out (hu.alloc _)
      | true =>
        rw [if_pos rfl]
        by_cases hq : q = 0
        · subst hq
          rw [if_pos rfl]
          go_enter Tryz.func123, Tryz.ntmps123
          go_wp2_with fail
          refine (c1 _).mono ?_
          rintro e w1 ⟨rfl, rfl⟩
          go_wp2_with fail
          refine (c2 _).mono ?_
          rintro e w1 ⟨rfl, hu⟩
          go_wp2_with fail
          refine (i1 _).mono ?_
          rintro e w2 ⟨A, d, rfl, hO, hu2⟩
          have HO := Lib.hid (own_base hO hu.size)
          clear hO
          go_wp2_with fail
          go_ret
          exact ⟨A, d, rfl, HO.out, hu.trans hu2⟩
        · rw [if_neg hq]
          have hqb : ((q : Int) != 0) = true := by simp; omega
          clear hq
          go_enter Tryz.func123, Tryz.ntmps123
          go_wp2_with fail
          refine (c1 _).mono ?_
          rintro e w1 ⟨rfl, rfl⟩
          go_wp2_with fail
          refine (c2 _).mono ?_
          rintro e w1 ⟨rfl, hu⟩
          go_wp2_with fail
          refine (i1 _).mono ?_
          rintro e w2 ⟨A, d, rfl, hO, hu2⟩
          have HO := Lib.hid (own_base hO hu.size)
          clear hO
          go_wp2_with fail
          refine (i2 _).mono ?_
          rintro e w3 ⟨B, d2, rfl, hO2, hu3⟩
          have hown := own_up HO.out hu3
          have hrd := own_read hO2
          obtain ⟨v', w4, hap, hown4, hg, _⟩ := elU.app w3 60 hown hrd (us_len G).symm (one_us G) (by omega) (by omega) (Nat.le_trans hu.size (Nat.le_trans hu2.size hu3.size))
          have hu4 : Up w w4 := ((hu.trans hu2).trans hu3).own hg (fun g hg => (hown.lt g hg).1)
          have HA := Lib.hid hap
          have HO4 := Lib.hid hown4
          clear hap hown4 hg hown hrd hO2 HO
          go_wp2_with (at_builtin; refine wpList_app rfl _ _ _ rfl rfl rfl HA.out ?_)
          go_ret
          refine Gives.of (n := F.length + G.length) (by rw [List.length_append]) ?_ hu4
          rw [us_append]
          exact HO4.out

theorem full_ref5 (c : Nat) (w : World) : Calls Tryz.prog 105 #[.int .u32 (c : Int)] w (Gives (full c) w) := by
  have c1 := fun w => full_ref_n 6 c (by omega) w
  have e0 : fulN 6 c = full c := rfl
  rw [e0] at c1
  clear e0
  generalize full c = F at *
  go_enter Tryz.func105, Tryz.ntmps105
  go_wp2_with fail
  refine (c1 _).mono ?_
  rintro e w1 ⟨A, d, rfl, hO, hu⟩
  have HO := Lib.hid hO
  clear hO
  go_wp2_with fail
  go_ret
  exact ⟨A, d, rfl, HO.out, hu⟩

end Go.Proofs.YtipemmjbgegmfaaGreatDoor

/- The document's decompositions of lists. -/
namespace Go.Proofs.YtipemmjbgegmfaaGreatDoor
open Go.RowKit

theorem flat_take (f : Nat → List Nat) {l : List Nat} {k : Nat} (hk : k < l.length) : (l.take (k + 1)).flatMap f = (l.take k).flatMap f ++ f l[k] := by
  rw [List.take_succ_eq_append_getElem hk, List.flatMap_append]; simp
theorem flat_full_len (l : List Nat) : (l.flatMap full).length ≤ 4 * l.length := by
  induction l with
  | nil => simp
  | cons c l ih =>
    rw [List.flatMap_cons, List.length_append, List.length_cons]
    have := full_len c
    omega

set_option maxRecDepth 100000 in
theorem list_ref5 (A : Option Addr) (n d : Nat) (l : List Nat) (w : World) (h : Rd w A d (us l)) (hn : n = l.length) (hmax : n ≤ 100000) :
    Calls Tryz.prog 82 #[.slice A n d] w (Gives (l.flatMap full) w) := by
  have c1 := Lib.hid full_ref5
  have HT := Lib.hid (fun k (hk : k < l.length) => flat_take full hk)
  have HL := Lib.hid (fun x => full_len x)
  have H := Lib.hid h
  have Hn := Lib.hid hn
  have hf := h.fit
  rw [us_len] at hf
  have hfn : n ≤ d := by omega
  clear h hn hf
  go_enter Tryz.func82, Tryz.ntmps82
  go_wp2_with fail
  go_loopw [3, 4] (fun v i wr => ∃ k m : Nat, k ≤ n ∧ i = .int .i64 (k : Int) ∧ m ≤ 4 * k ∧ Hid (m = ((l.take k).flatMap full).length) ∧ Hid (wr.ownsRow w.heap.size 28 1 v m (us ((l.take k).flatMap full))) ∧ Up w wr) (fun _ i _ => n - (intOf i).toNat)
  case atStart => exact ⟨0, 0, by omega, rfl, by omega, Lib.hid rfl, Lib.hid (World.ownsRow_nil w _ _ 1), Up.refl w⟩
  case round =>
    obtain ⟨k, m, hk, rfl, hm, HM, HO, hu⟩ := hrel
    by_cases hlt : k < n
    · have hkl : k < l.length := by rw [← Hn.out]; exact hlt
      obtain ⟨a, rfl, _⟩ := H.out.ad (by omega)
      have hcell : wr.cell? (a.add k) = some (.int .u32 (l[k] : Int)) := (H.out.up hu).cell a rfl k _ (us_get l k hkl)
      have HS := Lib.hid (HT.out k hkl)
      have C1 := c1.out l[k]
      have hF := HL.out l[k]
      generalize l[k] = x at *
      generalize full x = F at *
      generalize (l.take k).flatMap full = G at *
      go_wp2_with fail
      refine (C1 _).mono ?_
      rintro e w2 ⟨B, d2, rfl, hO2, hu2⟩
      have hown := own_up HO.out hu2
      have hrd := own_read hO2
      obtain ⟨v', w4, hap, hown4, hg, _⟩ := elU.app w2 60 hown hrd (us_len F).symm (one_us F) (by omega) (by omega) (Nat.le_trans hu.size hu2.size)
      have hu4 : Up w w4 := (hu.trans hu2).own hg (fun g hg => (hown.lt g hg).1)
      have HA := Lib.hid hap
      have HO4 := Lib.hid hown4
      clear hap hown4 hg hown hrd hO2 HO
      go_wp2_with (at_builtin; refine wpList_app rfl _ _ _ rfl rfl rfl HA.out ?_)
      go_roundw
      case rel => exact ⟨k + 1, m + F.length, by omega, by go_num, by omega, Lib.hid (by rw [HS.out, List.length_append, HM.out]), Lib.hid (by rw [HS.out, us_append]; exact HO4.out), hu4⟩
      case measure => simp [intOf]; omega
    · have e : l.take k = l := List.take_of_length_le (by rw [← Hn.out]; omega)
      rw [e] at HO HM
      clear e
      go_wp2_with fail
      go_ret
      exact Gives.of HM.out HO.out hu

end Go.Proofs.YtipemmjbgegmfaaGreatDoor

/- What is asked of the program's decomp; the closed cases of stage 5. -/
namespace Go.Proofs.YtipemmjbgegmfaaGreatDoor
open Go.RowKit

theorem k5_436 : key decS.data.toList 16 436 = 7701 := by kernel_rfl
theorem k5_436a : fld decS.data.toList 16 436 5 5 = 275 := by kernel_rfl
theorem k5_436b : fld decS.data.toList 16 436 10 5 = 768 := by kernel_rfl
theorem k5_70 : key decS.data.toList 16 70 = 275 := by kernel_rfl
theorem k5_70a : fld decS.data.toList 16 70 5 5 = 101 := by kernel_rfl
theorem k5_70b : fld decS.data.toList 16 70 10 5 = 772 := by kernel_rfl
theorem row_ne {c k : Nat} (h : rowOf c = k + 1) : rowOf c ≠ 0 := by omega
theorem full_step {c a b k : Nat} {l : List Nat} (h : rowOf c = k + 1) (ha : decA c = a) (hb : decB c = b) (hl : full a = l) (hb0 : b ≠ 0) : full c = l ++ [b] := by
  rw [full_row (row_ne h), ha, hb, hl, if_neg hb0]
theorem small_full {c : Nat} (h : c < 192) : full c = [c] :=
  full_no (by rw [Bool.eq_false_iff]; intro h2; have := (isS_iff c).1 h2; omega) (row_less (Nat.lt_of_lt_of_le h (geq k_dec0 (Nat.le_refl _))))
theorem v5_275 : full 275 = [101] ++ [772] :=
  full_step (row_of_key (j := 70) (by decide) k5_70) ((row_dec (row_of_key (j := 70) (by decide) k5_70)).1.trans k5_70a) ((row_dec (row_of_key (j := 70) (by decide) k5_70)).2.1.trans k5_70b) (small_full (by decide)) (by decide)
theorem v5_7701 : full 7701 = [101, 772, 768] :=
  full_step (row_of_key (j := 436) (by decide) k5_436) ((row_dec (row_of_key (j := 436) (by decide) k5_436)).1.trans k5_436a) ((row_dec (row_of_key (j := 436) (by decide) k5_436)).2.1.trans k5_436b) v5_275 (by decide)

end Go.Proofs.YtipemmjbgegmfaaGreatDoor
