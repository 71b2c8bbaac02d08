/- The document's full decompositions: what its functions answer. -/
import Derived.Test.YthdhlcafomhdbaaDoorOwn
import Derived.Test.YthdhlcafomhdbaaDoorFul
import Derived.Test.YthdhlcafomhdbaaDoorHgr
namespace Go.Proofs.YthdhlcafomhdbaaDoor
open Go.RowKit

theorem fulN_len : ∀ (n c : Nat), (fulN n c).length ≤ 4
  | 0, c => by unfold fulN; split <;> (try split) <;> simp
  | n + 1, c => by
    have h := full_len c
    by_cases hs : isS c = true
    · rw [fulN_S hs]; split <;> simp
    · have hs' : isS c = false := by simpa using hs
      by_cases hr : rowOf c = 0
      · rw [fulN_no hs' hr]; simp
      · have key : ∀ n k c, Ends k c → k ≤ 3 → isS c = false → (fulN n c).length ≤ k + 1 := fun n => by
          induction n with
          | zero => intro k c _ _ hs; unfold fulN; rw [if_neg (by rw [hs]; decide)]; simp
          | succ n ih =>
            intro k c h hk hs
            by_cases hx : rowOf c = 0
            · rw [fulN_no hs hx]; simp
            · cases k with
              | zero => exact absurd h hx
              | succ k =>
                rw [fulN_row hx, List.length_append]
                have := ih k (decA c) (h hx) (by omega) (not_S (row_p hx).a)
                split <;> simp <;> omega
        have := key (n + 1) 3 c (ends_three c) (by omega) hs'
        omega

set_option maxRecDepth 100000 in
theorem full_ref_n : ∀ (n c : Nat) (_ : n ≤ 6) (w : World), Calls Tryd.prog 18 #[.int .u32 (c : Int), .int .i64 (n : Int)] w (Gives (fulN n c) w) := by
  intro n
  induction n with
  | zero =>
    intro c hn w
    have c1 := split_ref c
    have c2 := decomp_ref c
    cases hs : isS c with
    | true =>
      rw [fulN_S hs]
      rw [hs] at c1
      clear hs
      by_cases ht : splT c = 0
      · rw [if_pos ht]
        rw [ht] at c1
        clear ht c2
        generalize splL c = x at *
        generalize splV c = y at *
        have hown := own_lit w [x, y] 2 rfl (by omega)
        have HO := Lib.hid hown
        clear hown
        go_enter Tryd.func18, Tryd.ntmps18
        go_wp2_with fail
        refine (c1 _).mono ?_
        rintro e w1 ⟨rfl, rfl⟩
        go_wp2_with fail
        go_ret
        exact Gives.of (n := 2) rfl HO.out ((Up.refl w).alloc _)
      · rw [if_neg ht]
        have hz : ((splT c : Int) == 0) = false := by simp; omega
        clear ht c2
        generalize splL c = x at *
        generalize splV c = y at *
        generalize splT c = z at *
        have hown := own_lit w [x, y, z] 3 rfl (by omega)
        have HO := Lib.hid hown
        clear hown
        go_enter Tryd.func18, Tryd.ntmps18
        go_wp2_with fail
        refine (c1 _).mono ?_
        rintro e w1 ⟨rfl, rfl⟩
        go_wp2_with fail
        go_ret
        exact Gives.of (n := 3) rfl HO.out ((Up.refl w).alloc _)
    | false =>
      have e0 : fulN 0 c = [c] := by unfold fulN; rw [if_neg (by rw [hs]; decide)]
      rw [e0]
      rw [hs] at c1
      clear hs e0
      generalize splL c = x at *
      generalize splV c = y at *
      generalize splT c = z at *
      generalize decA c = p at *
      generalize decB c = q at *
      generalize decOk c = ok at *
      go_enter Tryd.func18, Tryd.ntmps18
      go_wp2_with fail
      refine (c1 _).mono ?_
      rintro e w1 ⟨rfl, rfl⟩
      go_wp2_with fail
      refine (c2 _).mono ?_
      rintro e w1 ⟨rfl, hu⟩
      have hown := own_lit w1 [c] 1 rfl (by omega)
      have HO := Lib.hid (own_base hown hu.size)
      clear hown
      cases ok
      all_goals
        go_wp2_with fail
        go_ret
        exact Gives.of (n := 1) rfl HO.out (hu.alloc _)
  | succ n ih =>
    intro c hn w
    have c1 := split_ref c
    have c2 := decomp_ref c
    cases hs : isS c with
    | true =>
      rw [fulN_S hs]
      rw [hs] at c1
      clear hs
      by_cases ht : splT c = 0
      · rw [if_pos ht]
        rw [ht] at c1
        clear ht c2
        generalize splL c = x at *
        generalize splV c = y at *
        have hown := own_lit w [x, y] 2 rfl (by omega)
        have HO := Lib.hid hown
        clear hown
        go_enter Tryd.func18, Tryd.ntmps18
        go_wp2_with fail
        refine (c1 _).mono ?_
        rintro e w1 ⟨rfl, rfl⟩
        go_wp2_with fail
        go_ret
        exact Gives.of (n := 2) rfl HO.out ((Up.refl w).alloc _)
      · rw [if_neg ht]
        have hz : ((splT c : Int) == 0) = false := by simp; omega
        clear ht c2
        generalize splL c = x at *
        generalize splV c = y at *
        generalize splT c = z at *
        have hown := own_lit w [x, y, z] 3 rfl (by omega)
        have HO := Lib.hid hown
        clear hown
        go_enter Tryd.func18, Tryd.ntmps18
        go_wp2_with fail
        refine (c1 _).mono ?_
        rintro e w1 ⟨rfl, rfl⟩
        go_wp2_with fail
        go_ret
        exact Gives.of (n := 3) rfl HO.out ((Up.refl w).alloc _)
    | false =>
      have e0 : fulN (n + 1) c = if decOk c = true then (if decB c = 0 then fulN n (decA c) else fulN n (decA c) ++ fulN n (decB c)) else [c] := by
        conv => lhs; unfold fulN
        rw [if_neg (by rw [hs]; decide)]
      rw [e0]
      rw [hs] at c1
      clear hs e0
      have L1 := fulN_len n (decA c)
      have L2 := fulN_len n (decB c)
      have i1 := fun w => ih (decA c) (by omega) w
      have i2 := fun w => ih (decB c) (by omega) w
      clear ih
      generalize fulN n (decA c) = F at *
      generalize fulN n (decB c) = G at *
      generalize splL c = x at *
      generalize splV c = y at *
      generalize splT c = z at *
      generalize decA c = p at *
      generalize decB c = q at *
      generalize decOk c = ok at *
      have hnz : (((n : Int) + 1) == 0) = false := by simp; omega
      have hn1 : ((n + 1 : Nat) : Int) = (n : Int) + 1 := by omega
      rw [hn1]
      clear hn1
      cases ok with
      | false =>
        rw [if_neg Bool.false_ne_true]
        go_enter Tryd.func18, Tryd.ntmps18
        go_wp2_with fail
        refine (c1 _).mono ?_
        rintro e w1 ⟨rfl, rfl⟩
        go_wp2_with fail
        refine (c2 _).mono ?_
        rintro e w1 ⟨rfl, hu⟩
        have hown := own_lit w1 [c] 1 rfl (by omega)
        have HO := Lib.hid (own_base hown hu.size)
        clear hown
        go_wp2_with fail
        go_ret
        exact Gives.of (n := 1) rfl HO.out (hu.alloc _)
      | true =>
        rw [if_pos rfl]
        by_cases hq : q = 0
        · subst hq
          rw [if_pos rfl]
          go_enter Tryd.func18, Tryd.ntmps18
          go_wp2_with fail
          refine (c1 _).mono ?_
          rintro e w1 ⟨rfl, rfl⟩
          go_wp2_with fail
          refine (c2 _).mono ?_
          rintro e w1 ⟨rfl, hu⟩
          go_wp2_with fail
          refine (i1 _).mono ?_
          rintro e w2 ⟨A, d, rfl, hO, hu2⟩
          have HO := Lib.hid (own_base hO hu.size)
          clear hO
          go_wp2_with fail
          go_ret
          exact ⟨A, d, rfl, HO.out, hu.trans hu2⟩
        · rw [if_neg hq]
          have hqb : ((q : Int) != 0) = true := by simp; omega
          clear hq
          go_enter Tryd.func18, Tryd.ntmps18
          go_wp2_with fail
          refine (c1 _).mono ?_
          rintro e w1 ⟨rfl, rfl⟩
          go_wp2_with fail
          refine (c2 _).mono ?_
          rintro e w1 ⟨rfl, hu⟩
          go_wp2_with fail
          refine (i1 _).mono ?_
          rintro e w2 ⟨A, d, rfl, hO, hu2⟩
          have HO := Lib.hid (own_base hO hu.size)
          clear hO
          go_wp2_with fail
          refine (i2 _).mono ?_
          rintro e w3 ⟨B, d2, rfl, hO2, hu3⟩
          have hown := own_up HO.out hu3
          have hrd := own_read hO2
          obtain ⟨v', w4, hap, hown4, hg, _⟩ := elU.app w3 23 hown hrd (us_len G).symm (one_us G) (by omega) (by omega) (Nat.le_trans hu.size (Nat.le_trans hu2.size hu3.size))
          have hu4 : Up w w4 := ((hu.trans hu2).trans hu3).own hg (fun g hg => (hown.lt g hg).1)
          have HA := Lib.hid hap
          have HO4 := Lib.hid hown4
          clear hap hown4 hg hown hrd hO2 HO
          go_wp2_with (at_builtin; refine wpList_app rfl _ _ _ rfl rfl rfl HA.out ?_)
          go_ret
          refine Gives.of (n := F.length + G.length) (by rw [List.length_append]) ?_ hu4
          rw [us_append]
          exact HO4.out

theorem full_ref5 (c : Nat) (w : World) : Calls Tryd.prog 9 #[.int .u32 (c : Int)] w (Gives (full c) w) := by
  have c1 := fun w => full_ref_n 6 c (by omega) w
  have e0 : fulN 6 c = full c := rfl
  rw [e0] at c1
  clear e0
  generalize full c = F at *
  go_enter Tryd.func9, Tryd.ntmps9
  go_wp2_with fail
  refine (c1 _).mono ?_
  rintro e w1 ⟨A, d, rfl, hO, hu⟩
  have HO := Lib.hid hO
  clear hO
  go_wp2_with fail
  go_ret
  exact ⟨A, d, rfl, HO.out, hu⟩

end Go.Proofs.YthdhlcafomhdbaaDoor
