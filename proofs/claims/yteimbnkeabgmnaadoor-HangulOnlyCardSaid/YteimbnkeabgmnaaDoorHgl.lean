/- The statements of stage 4: the walks. -/
import Derived.Test.YteimbnkeabgmnaaDoorHgo
import Derived.Test.YteimbnkeabgmnaaDoorHgq
namespace Go.Proofs.YteimbnkeabgmnaaDoor
open Go.RowKit

theorem awake_4 (w : World) (h : HRows w) : Calls Tryd.prog 13 #[] w fun e w' => e = .returned (.bool true) ∧ ∃ n, w' = w.drewN n := by
  have c1 := split_prog 44033
  have c2 := join_prog 44032 4520
  have e1 : splL 44033 = 4352 := by decide
  have e2 : splV 44033 = 4449 := by decide
  have e3 : splT 44033 = 4520 := by decide
  have e4 : isS 44033 = true := by decide
  have e5 : joinC 44032 4520 = 44033 := by decide
  have e6 : joinOk 44032 4520 = true := by decide
  rw [e1, e2, e3, e4] at c1
  rw [e5, e6] at c2
  clear e1 e2 e3 e4 e5 e6
  go_enter Tryd.func13, Tryd.ntmps13
  go_wp2_with fail
  refine (c1 _ h).mono ?_
  rintro e w1 ⟨rfl, n1, rfl⟩
  go_wp2_with fail
  refine (c2 _ (h.drewN _)).mono ?_
  rintro e w1 ⟨rfl, n2, rfl⟩
  go_wp2_with fail
  go_ret
  exact ⟨rfl, _, rfl⟩

theorem splits_of (c : Nat) (w : World) (h : HRows w) : Calls Tryd.prog 3 #[.int .u32 (c : Int)] w fun e w' => e = .returned (.bool true) ∧ Up w w' := by
  have c1 := split_prog c
  have c2 := split_ref c
  have c3 := is_prog c
  have c4 := is_ref4 c
  generalize splL c = x at *
  generalize splV c = y at *
  generalize splT c = z at *
  generalize isS c = ok at *
  have hok : (ok == ok) = true := by simp
  go_enter Tryd.func3, Tryd.ntmps3
  go_wp2_with fail
  refine (c1 _ h).mono ?_
  rintro e w1 ⟨rfl, n1, rfl⟩
  go_wp2_with fail
  refine (c2 _).mono ?_
  rintro e w1 ⟨rfl, rfl⟩
  go_wp2_with fail
  refine (c3 _ (h.drewN _)).mono ?_
  rintro e w1 ⟨rfl, rfl⟩
  go_wp2_with fail
  refine (c4 _).mono ?_
  rintro e w1 ⟨rfl, rfl⟩
  go_wp2_with fail
  refine (awake_4 _ (h.drewN _)).mono ?_
  rintro e w1 ⟨rfl, n2, rfl⟩
  go_wp2_with fail
  go_ret
  exact ⟨rfl, (Up.refl w).drewN _⟩

theorem puts_of4 (l v t : Nat) (w : World) (h : HRows w) : Calls Tryd.prog 4 #[.int .u32 (l : Int), .int .u32 (v : Int), .int .u32 (t : Int)] w fun e w' => e = .returned (.bool true) ∧ Up w w' := by
  have c1 := put_prog l v t
  have c2 := put_ref l v t
  have hz : putE l v t < 3 := by unfold putE; split <;> omega
  generalize putC l v t = x at *
  generalize putE l v t = y at *
  go_enter Tryd.func4, Tryd.ntmps4
  go_wp2_with fail
  refine (c1 _ h).mono ?_
  rintro e w1 ⟨rfl, n1, rfl⟩
  go_wp2_with fail
  refine (c2 _).mono ?_
  rintro e w1 ⟨rfl, rfl⟩
  go_wp2_with fail
  refine (awake_4 _ (h.drewN _)).mono ?_
  rintro e w1 ⟨rfl, n2, rfl⟩
  go_wp2_with fail
  go_ret
  exact ⟨rfl, (Up.refl w).drewN _⟩

theorem joins_of4 (a b : Nat) (w : World) (h : HRows w) : Calls Tryd.prog 5 #[.int .u32 (a : Int), .int .u32 (b : Int)] w fun e w' => e = .returned (.bool true) ∧ Up w w' := by
  have c1 := join_prog a b
  have c2 := join_ref a b
  generalize joinC a b = x at *
  generalize joinOk a b = ok at *
  have hok : (ok == ok) = true := by simp
  go_enter Tryd.func5, Tryd.ntmps5
  go_wp2_with fail
  refine (c1 _ h).mono ?_
  rintro e w1 ⟨rfl, n1, rfl⟩
  go_wp2_with fail
  refine (c2 _).mono ?_
  rintro e w1 ⟨rfl, rfl⟩
  go_wp2_with fail
  refine (awake_4 _ (h.drewN _)).mono ?_
  rintro e w1 ⟨rfl, n2, rfl⟩
  go_wp2_with fail
  go_ret
  exact ⟨rfl, (Up.refl w).drewN _⟩

set_option maxRecDepth 100000 in
theorem only_of (a b : Nat) (w : World) (h : HRows w) : Calls Tryd.prog 8 #[.int .u32 (a : Int), .int .u32 (b : Int)] w fun e w' => e = .returned (.bool true) ∧ Up w w' := by
  have c1 := join_prog a b
  by_cases hj : joinOk a b = true
  · obtain ⟨h1, h2, h3⟩ := join_only hj
    rw [hj] at c1
    clear hj
    generalize joinC a b = c at *
    have c2 := split_prog c
    rw [h1] at c2
    clear h1
    have c3 := put_prog (splL c) (splV c) 0
    by_cases ht : splT c = 0
    · obtain ⟨e1, e2⟩ := h2 ht
      rw [ht, e1, e2] at c2
      clear h2 h3 e1 e2 ht c3
      go_enter Tryd.func8, Tryd.ntmps8
      go_wp2_with fail
      refine (c1 _ h).mono ?_
      rintro e w1 ⟨rfl, n1, rfl⟩
      go_wp2_with fail
      refine (c2 _ (h.drewN _)).mono ?_
      rintro e w1 ⟨rfl, n2, rfl⟩
      go_wp2_with fail
      refine (awake_4 _ ((h.drewN _))).mono ?_
      rintro e w1 ⟨rfl, n3, rfl⟩
      go_wp2_with fail
      go_ret
      exact ⟨rfl, (Up.refl w).drewN _⟩
    · obtain ⟨e1, e2, e3⟩ := h3 ht
      have hz : ((b : Int) == 0) = false := by rw [← e3]; simp; omega
      rw [e3] at c2
      rw [putE_yes e1, e2] at c3
      clear h2 h3 e1 e2 e3 ht
      generalize splL c = l at *
      generalize splV c = v at *
      go_enter Tryd.func8, Tryd.ntmps8
      go_wp2_with fail
      refine (c1 _ h).mono ?_
      rintro e w1 ⟨rfl, n1, rfl⟩
      go_wp2_with fail
      refine (c2 _ (h.drewN _)).mono ?_
      rintro e w1 ⟨rfl, n2, rfl⟩
      go_wp2_with fail
      refine (c3 _ (h.drewN _)).mono ?_
      rintro e w1 ⟨rfl, n3, rfl⟩
      go_wp2_with fail
      refine (awake_4 _ (h.drewN _)).mono ?_
      rintro e w1 ⟨rfl, n4, rfl⟩
      go_wp2_with fail
      go_ret
      exact ⟨rfl, (Up.refl w).drewN _⟩
  · have hj' : joinOk a b = false := by simpa using hj
    rw [hj', join_no hj'] at c1
    clear hj hj'
    go_enter Tryd.func8, Tryd.ntmps8
    go_wp2_with fail
    refine (c1 _ h).mono ?_
    rintro e w1 ⟨rfl, n1, rfl⟩
    go_wp2_with fail
    refine (awake_4 _ (h.drewN _)).mono ?_
    rintro e w1 ⟨rfl, n2, rfl⟩
    go_wp2_with fail
    go_ret
    exact ⟨rfl, (Up.refl w).drewN _⟩

set_option maxRecDepth 100000 in
theorem row_of4 (n : Nat) (hn : n < 65536) (w : World) (h : HRows w) : Calls Tryd.prog 7 #[.int .u16 (n : Int)] w fun e w' => e = .returned (.bool true) ∧ Up w w' := by
  have hc0 : 44032 + n % 11171 < 55203 := by have := Nat.mod_lt n (show 0 < 11171 by decide); omega
  obtain ⟨s1, s2, g1, g2, g3, g4⟩ := spl_next (c := 44032 + n % 11171) (by omega) hc0
  have b := spl_bounds (44032 + n % 11171)
  have c1 := split_prog (44032 + n % 11171)
  have c2 := split_prog (44032 + n % 11171 + 1)
  rw [s1] at c1
  rw [s2] at c2
  clear s1 s2
  have ec : ((44032 + n % 11171 : Nat) : Int) = 44032 + (n : Int) % 11171 := by omega
  have ec2 : ((44032 + n % 11171 + 1 : Nat) : Int) = 44032 + (n : Int) % 11171 + 1 := by omega
  rw [ec] at c1
  rw [ec2] at c2
  clear ec ec2
  generalize splL (44032 + n % 11171) = l at *
  generalize splV (44032 + n % 11171) = v at *
  generalize splT (44032 + n % 11171) = t at *
  generalize splL (44032 + n % 11171 + 1) = l' at *
  generalize splV (44032 + n % 11171 + 1) = v' at *
  generalize splT (44032 + n % 11171 + 1) = t' at *
  obtain ⟨b1, b2, b3⟩ := b
  by_cases q1 : t = 0
  · obtain ⟨rfl, rfl, rfl⟩ := g1 q1
    clear g1 g2 g3 g4
    subst q1
    go_enter Tryd.func7, Tryd.ntmps7
    go_wp2_with fail
    refine (c1 _ h).mono ?_
    rintro e w1 ⟨rfl, n1, rfl⟩
    go_wp2_with fail
    refine (c2 _ (h.drewN _)).mono ?_
    rintro e w1 ⟨rfl, n2, rfl⟩
    go_wp2_with fail
    refine (awake_4 _ (h.drewN _)).mono ?_
    rintro e w1 ⟨rfl, n3, rfl⟩
    go_wp2_with fail
    go_ret
    exact ⟨rfl, (Up.refl w).drewN _⟩
  · have hz : ((t : Int) == 0) = false := by simp; omega
    by_cases q2 : t < 4546
    · obtain ⟨rfl, rfl, rfl⟩ := g2 q1 q2
      clear g1 g2 g3 g4 q1
      go_enter Tryd.func7, Tryd.ntmps7
      go_wp2_with fail
      refine (c1 _ h).mono ?_
      rintro e w1 ⟨rfl, n1, rfl⟩
      go_wp2_with fail
      refine (c2 _ (h.drewN _)).mono ?_
      rintro e w1 ⟨rfl, n2, rfl⟩
      go_wp2_with fail
      refine (awake_4 _ (h.drewN _)).mono ?_
      rintro e w1 ⟨rfl, n3, rfl⟩
      go_wp2_with fail
      go_ret
      exact ⟨rfl, (Up.refl w).drewN _⟩
    · by_cases q3 : v < 4469
      · obtain ⟨rfl, rfl, rfl⟩ := g3 q1 q2 q3
        clear g1 g2 g3 g4 q1
        go_enter Tryd.func7, Tryd.ntmps7
        go_wp2_with fail
        refine (c1 _ h).mono ?_
        rintro e w1 ⟨rfl, n1, rfl⟩
        go_wp2_with fail
        refine (c2 _ (h.drewN _)).mono ?_
        rintro e w1 ⟨rfl, n2, rfl⟩
        go_wp2_with fail
        refine (awake_4 _ (h.drewN _)).mono ?_
        rintro e w1 ⟨rfl, n3, rfl⟩
        go_wp2_with fail
        go_ret
        exact ⟨rfl, (Up.refl w).drewN _⟩
      · obtain ⟨rfl, rfl, rfl⟩ := g4 q1 q2 q3
        clear g1 g2 g3 g4 q1
        go_enter Tryd.func7, Tryd.ntmps7
        go_wp2_with fail
        refine (c1 _ h).mono ?_
        rintro e w1 ⟨rfl, n1, rfl⟩
        go_wp2_with fail
        refine (c2 _ (h.drewN _)).mono ?_
        rintro e w1 ⟨rfl, n2, rfl⟩
        go_wp2_with fail
        refine (awake_4 _ (h.drewN _)).mono ?_
        rintro e w1 ⟨rfl, n3, rfl⟩
        go_wp2_with fail
        go_ret
        exact ⟨rfl, (Up.refl w).drewN _⟩

set_option maxRecDepth 100000 in
theorem back_no_ok (c l v t : Nat) (hs : isS c = false) (hp : putOk l v t = true) (w : World) (h : HRows w) : Calls Tryd.prog 6 #[.int .u32 (c : Int), .agg #[.int .u32 (l : Int), .int .u32 (v : Int), .int .u32 (t : Int)]] w fun e w' => e = .returned (.bool true) ∧ Up w w' := by
  have u0 : Up w (w.alloc (.cells #[.int .u32 (l : Int), .int .u32 (v : Int), .int .u32 (t : Int)] 36)) := (Up.refl w).alloc _
  have q := h.up u0
  have c1 := split_prog c
  have c5 := put_prog l v t
  have c6 := split_prog (putC l v t)
  have c7 := is_prog c
  have e1 : splL c = 0 := by unfold splL; rw [if_neg (by rw [hs]; decide)]
  have e2 : splV c = 0 := by unfold splV; rw [if_neg (by rw [hs]; decide)]
  have e3 : splT c = 0 := by unfold splT; rw [if_neg (by rw [hs]; decide)]
  rw [hs, e1, e2, e3] at c1
  rw [hs] at c7
  clear e1 e2 e3
  rw [putE_yes hp] at c5
  rw [isS_put hp, splL_put hp, splV_put hp, splT_put hp] at c6
  clear hs hp
  generalize putC l v t = d at *
  go_enter Tryd.func6, Tryd.ntmps6
  go_wp2_with fail
  go_quiet (fail)
  go_wp2_with fail
  refine (c1 _ (q.drewN _)).mono ?_
  rintro e w1 ⟨rfl, n1, rfl⟩
  go_wp2_with fail
  refine (c5 _ (q.drewN _)).mono ?_
  rintro e w1 ⟨rfl, n5, rfl⟩
  go_wp2_with fail
  refine (c6 _ (q.drewN _)).mono ?_
  rintro e w1 ⟨rfl, n6, rfl⟩
  go_wp2_with fail
  refine (c7 _ (q.drewN _)).mono ?_
  rintro e w1 ⟨rfl, rfl⟩
  go_wp2_with fail
  refine (awake_4 _ (q.drewN _)).mono ?_
  rintro e w1 ⟨rfl, n7, rfl⟩
  go_wp2_with fail
  go_ret
  exact ⟨rfl, u0.drewN _⟩

set_option maxRecDepth 100000 in
theorem back_no_bad (c l v t : Nat) (hs : isS c = false) (hp : putOk l v t = false) (w : World) (h : HRows w) : Calls Tryd.prog 6 #[.int .u32 (c : Int), .agg #[.int .u32 (l : Int), .int .u32 (v : Int), .int .u32 (t : Int)]] w fun e w' => e = .returned (.bool true) ∧ Up w w' := by
  have u0 : Up w (w.alloc (.cells #[.int .u32 (l : Int), .int .u32 (v : Int), .int .u32 (t : Int)] 36)) := (Up.refl w).alloc _
  have q := h.up u0
  have c1 := split_prog c
  have c5 := put_prog l v t
  have c6 := split_prog (putC l v t)
  have c7 := is_prog c
  have e1 : splL c = 0 := by unfold splL; rw [if_neg (by rw [hs]; decide)]
  have e2 : splV c = 0 := by unfold splV; rw [if_neg (by rw [hs]; decide)]
  have e3 : splT c = 0 := by unfold splT; rw [if_neg (by rw [hs]; decide)]
  rw [hs, e1, e2, e3] at c1
  rw [hs] at c7
  clear e1 e2 e3
  rw [put_bad hp] at c6
  rw [putE_no hp, put_bad hp] at c5
  have e4 : splL 0 = 0 := by decide
  have e5 : splV 0 = 0 := by decide
  have e6 : splT 0 = 0 := by decide
  have e7 : isS 0 = false := by decide
  rw [e4, e5, e6, e7] at c6
  clear e4 e5 e6 e7
  clear hs hp
  go_enter Tryd.func6, Tryd.ntmps6
  go_wp2_with fail
  go_quiet (fail)
  go_wp2_with fail
  refine (c1 _ (q.drewN _)).mono ?_
  rintro e w1 ⟨rfl, n1, rfl⟩
  go_wp2_with fail
  refine (c5 _ (q.drewN _)).mono ?_
  rintro e w1 ⟨rfl, n5, rfl⟩
  go_wp2_with fail
  refine (c6 _ (q.drewN _)).mono ?_
  rintro e w1 ⟨rfl, n6, rfl⟩
  go_wp2_with fail
  refine (c7 _ (q.drewN _)).mono ?_
  rintro e w1 ⟨rfl, rfl⟩
  go_wp2_with fail
  refine (awake_4 _ (q.drewN _)).mono ?_
  rintro e w1 ⟨rfl, n7, rfl⟩
  go_wp2_with fail
  go_ret
  exact ⟨rfl, u0.drewN _⟩

set_option maxRecDepth 100000 in
theorem back_z0_ok (c l v t : Nat) (hs : isS c = true) (hz : splT c = 0) (hp : putOk l v t = true) (w : World) (h : HRows w) : Calls Tryd.prog 6 #[.int .u32 (c : Int), .agg #[.int .u32 (l : Int), .int .u32 (v : Int), .int .u32 (t : Int)]] w fun e w' => e = .returned (.bool true) ∧ Up w w' := by
  have u0 : Up w (w.alloc (.cells #[.int .u32 (l : Int), .int .u32 (v : Int), .int .u32 (t : Int)] 36)) := (Up.refl w).alloc _
  have q := h.up u0
  have c1 := split_prog c
  have c5 := put_prog l v t
  have c6 := split_prog (putC l v t)
  have c7 := is_prog c
  have c2 := put_prog (splL c) (splV c) (splT c)
  have c3 := join_prog (splL c) (splV c)
  have c4 := join_prog (putC (splL c) (splV c) 0) (splT c)
  rw [put_spl hs, putE_yes (spl_ok hs)] at c2
  rw [(join_spl hs).1, (join_spl hs).2] at c3
  have hx := put_spl hs
  rw [hz] at hx
  rw [hz] at c1 c2
  rw [hx] at c3
  clear c4 hx
  rw [hs] at c1 c7
  rw [putE_yes hp] at c5
  rw [isS_put hp, splL_put hp, splV_put hp, splT_put hp] at c6
  clear hs hp hz
  generalize putC (splL c) (splV c) 0 = g at *
  generalize splL c = x at *
  generalize splV c = y at *
  generalize putC l v t = d at *
  go_enter Tryd.func6, Tryd.ntmps6
  go_wp2_with fail
  go_quiet (fail)
  go_wp2_with fail
  refine (c1 _ (q.drewN _)).mono ?_
  rintro e w1 ⟨rfl, n1, rfl⟩
  go_wp2_with fail
  refine (c2 _ (q.drewN _)).mono ?_
  rintro e w1 ⟨rfl, n2, rfl⟩
  go_wp2_with fail
  refine (c3 _ (q.drewN _)).mono ?_
  rintro e w1 ⟨rfl, n3, rfl⟩
  go_wp2_with fail
  refine (c5 _ (q.drewN _)).mono ?_
  rintro e w1 ⟨rfl, n5, rfl⟩
  go_wp2_with fail
  refine (c6 _ (q.drewN _)).mono ?_
  rintro e w1 ⟨rfl, n6, rfl⟩
  go_wp2_with fail
  refine (c7 _ (q.drewN _)).mono ?_
  rintro e w1 ⟨rfl, rfl⟩
  go_wp2_with fail
  refine (awake_4 _ (q.drewN _)).mono ?_
  rintro e w1 ⟨rfl, n7, rfl⟩
  go_wp2_with fail
  go_ret
  exact ⟨rfl, u0.drewN _⟩

set_option maxRecDepth 100000 in
theorem back_z0_bad (c l v t : Nat) (hs : isS c = true) (hz : splT c = 0) (hp : putOk l v t = false) (w : World) (h : HRows w) : Calls Tryd.prog 6 #[.int .u32 (c : Int), .agg #[.int .u32 (l : Int), .int .u32 (v : Int), .int .u32 (t : Int)]] w fun e w' => e = .returned (.bool true) ∧ Up w w' := by
  have u0 : Up w (w.alloc (.cells #[.int .u32 (l : Int), .int .u32 (v : Int), .int .u32 (t : Int)] 36)) := (Up.refl w).alloc _
  have q := h.up u0
  have c1 := split_prog c
  have c5 := put_prog l v t
  have c6 := split_prog (putC l v t)
  have c7 := is_prog c
  have c2 := put_prog (splL c) (splV c) (splT c)
  have c3 := join_prog (splL c) (splV c)
  have c4 := join_prog (putC (splL c) (splV c) 0) (splT c)
  rw [put_spl hs, putE_yes (spl_ok hs)] at c2
  rw [(join_spl hs).1, (join_spl hs).2] at c3
  have hx := put_spl hs
  rw [hz] at hx
  rw [hz] at c1 c2
  rw [hx] at c3
  clear c4 hx
  rw [hs] at c1 c7
  rw [put_bad hp] at c6
  rw [putE_no hp, put_bad hp] at c5
  have e4 : splL 0 = 0 := by decide
  have e5 : splV 0 = 0 := by decide
  have e6 : splT 0 = 0 := by decide
  have e7 : isS 0 = false := by decide
  rw [e4, e5, e6, e7] at c6
  clear e4 e5 e6 e7
  clear hs hp hz
  generalize putC (splL c) (splV c) 0 = g at *
  generalize splL c = x at *
  generalize splV c = y at *
  go_enter Tryd.func6, Tryd.ntmps6
  go_wp2_with fail
  go_quiet (fail)
  go_wp2_with fail
  refine (c1 _ (q.drewN _)).mono ?_
  rintro e w1 ⟨rfl, n1, rfl⟩
  go_wp2_with fail
  refine (c2 _ (q.drewN _)).mono ?_
  rintro e w1 ⟨rfl, n2, rfl⟩
  go_wp2_with fail
  refine (c3 _ (q.drewN _)).mono ?_
  rintro e w1 ⟨rfl, n3, rfl⟩
  go_wp2_with fail
  refine (c5 _ (q.drewN _)).mono ?_
  rintro e w1 ⟨rfl, n5, rfl⟩
  go_wp2_with fail
  refine (c6 _ (q.drewN _)).mono ?_
  rintro e w1 ⟨rfl, n6, rfl⟩
  go_wp2_with fail
  refine (c7 _ (q.drewN _)).mono ?_
  rintro e w1 ⟨rfl, rfl⟩
  go_wp2_with fail
  refine (awake_4 _ (q.drewN _)).mono ?_
  rintro e w1 ⟨rfl, n7, rfl⟩
  go_wp2_with fail
  go_ret
  exact ⟨rfl, u0.drewN _⟩

set_option maxRecDepth 100000 in
theorem back_z1_ok (c l v t : Nat) (hs : isS c = true) (hz : splT c ≠ 0) (hp : putOk l v t = true) (w : World) (h : HRows w) : Calls Tryd.prog 6 #[.int .u32 (c : Int), .agg #[.int .u32 (l : Int), .int .u32 (v : Int), .int .u32 (t : Int)]] w fun e w' => e = .returned (.bool true) ∧ Up w w' := by
  have u0 : Up w (w.alloc (.cells #[.int .u32 (l : Int), .int .u32 (v : Int), .int .u32 (t : Int)] 36)) := (Up.refl w).alloc _
  have q := h.up u0
  have c1 := split_prog c
  have c5 := put_prog l v t
  have c6 := split_prog (putC l v t)
  have c7 := is_prog c
  have c2 := put_prog (splL c) (splV c) (splT c)
  have c3 := join_prog (splL c) (splV c)
  have c4 := join_prog (putC (splL c) (splV c) 0) (splT c)
  rw [put_spl hs, putE_yes (spl_ok hs)] at c2
  rw [(join_spl hs).1, (join_spl hs).2] at c3
  rw [(join_spl3 hs hz).1, (join_spl3 hs hz).2] at c4
  have hzb : ((splT c : Int) != 0) = true := by simp; omega
  rw [hs] at c1 c7
  rw [putE_yes hp] at c5
  rw [isS_put hp, splL_put hp, splV_put hp, splT_put hp] at c6
  clear hs hp hz
  generalize putC (splL c) (splV c) 0 = g at *
  generalize splL c = x at *
  generalize splV c = y at *
  generalize splT c = z at *
  generalize putC l v t = d at *
  go_enter Tryd.func6, Tryd.ntmps6
  go_wp2_with fail
  go_quiet (fail)
  go_wp2_with fail
  refine (c1 _ (q.drewN _)).mono ?_
  rintro e w1 ⟨rfl, n1, rfl⟩
  go_wp2_with fail
  refine (c2 _ (q.drewN _)).mono ?_
  rintro e w1 ⟨rfl, n2, rfl⟩
  go_wp2_with fail
  refine (c3 _ (q.drewN _)).mono ?_
  rintro e w1 ⟨rfl, n3, rfl⟩
  go_wp2_with fail
  refine (c4 _ (q.drewN _)).mono ?_
  rintro e w1 ⟨rfl, n4, rfl⟩
  go_wp2_with fail
  refine (c5 _ (q.drewN _)).mono ?_
  rintro e w1 ⟨rfl, n5, rfl⟩
  go_wp2_with fail
  refine (c6 _ (q.drewN _)).mono ?_
  rintro e w1 ⟨rfl, n6, rfl⟩
  go_wp2_with fail
  refine (c7 _ (q.drewN _)).mono ?_
  rintro e w1 ⟨rfl, rfl⟩
  go_wp2_with fail
  refine (awake_4 _ (q.drewN _)).mono ?_
  rintro e w1 ⟨rfl, n7, rfl⟩
  go_wp2_with fail
  go_ret
  exact ⟨rfl, u0.drewN _⟩

set_option maxRecDepth 100000 in
theorem back_z1_bad (c l v t : Nat) (hs : isS c = true) (hz : splT c ≠ 0) (hp : putOk l v t = false) (w : World) (h : HRows w) : Calls Tryd.prog 6 #[.int .u32 (c : Int), .agg #[.int .u32 (l : Int), .int .u32 (v : Int), .int .u32 (t : Int)]] w fun e w' => e = .returned (.bool true) ∧ Up w w' := by
  have u0 : Up w (w.alloc (.cells #[.int .u32 (l : Int), .int .u32 (v : Int), .int .u32 (t : Int)] 36)) := (Up.refl w).alloc _
  have q := h.up u0
  have c1 := split_prog c
  have c5 := put_prog l v t
  have c6 := split_prog (putC l v t)
  have c7 := is_prog c
  have c2 := put_prog (splL c) (splV c) (splT c)
  have c3 := join_prog (splL c) (splV c)
  have c4 := join_prog (putC (splL c) (splV c) 0) (splT c)
  rw [put_spl hs, putE_yes (spl_ok hs)] at c2
  rw [(join_spl hs).1, (join_spl hs).2] at c3
  rw [(join_spl3 hs hz).1, (join_spl3 hs hz).2] at c4
  have hzb : ((splT c : Int) != 0) = true := by simp; omega
  rw [hs] at c1 c7
  rw [put_bad hp] at c6
  rw [putE_no hp, put_bad hp] at c5
  have e4 : splL 0 = 0 := by decide
  have e5 : splV 0 = 0 := by decide
  have e6 : splT 0 = 0 := by decide
  have e7 : isS 0 = false := by decide
  rw [e4, e5, e6, e7] at c6
  clear e4 e5 e6 e7
  clear hs hp hz
  generalize putC (splL c) (splV c) 0 = g at *
  generalize splL c = x at *
  generalize splV c = y at *
  generalize splT c = z at *
  go_enter Tryd.func6, Tryd.ntmps6
  go_wp2_with fail
  go_quiet (fail)
  go_wp2_with fail
  refine (c1 _ (q.drewN _)).mono ?_
  rintro e w1 ⟨rfl, n1, rfl⟩
  go_wp2_with fail
  refine (c2 _ (q.drewN _)).mono ?_
  rintro e w1 ⟨rfl, n2, rfl⟩
  go_wp2_with fail
  refine (c3 _ (q.drewN _)).mono ?_
  rintro e w1 ⟨rfl, n3, rfl⟩
  go_wp2_with fail
  refine (c4 _ (q.drewN _)).mono ?_
  rintro e w1 ⟨rfl, n4, rfl⟩
  go_wp2_with fail
  refine (c5 _ (q.drewN _)).mono ?_
  rintro e w1 ⟨rfl, n5, rfl⟩
  go_wp2_with fail
  refine (c6 _ (q.drewN _)).mono ?_
  rintro e w1 ⟨rfl, n6, rfl⟩
  go_wp2_with fail
  refine (c7 _ (q.drewN _)).mono ?_
  rintro e w1 ⟨rfl, rfl⟩
  go_wp2_with fail
  refine (awake_4 _ (q.drewN _)).mono ?_
  rintro e w1 ⟨rfl, n7, rfl⟩
  go_wp2_with fail
  go_ret
  exact ⟨rfl, u0.drewN _⟩

theorem back_of4 (c l v t : Nat) (w : World) (h : HRows w) : Calls Tryd.prog 6 #[.int .u32 (c : Int), .agg #[.int .u32 (l : Int), .int .u32 (v : Int), .int .u32 (t : Int)]] w fun e w' => e = .returned (.bool true) ∧ Up w w' := by
  rcases Bool.eq_false_or_eq_true (putOk l v t) with hp | hp <;> rcases Bool.eq_false_or_eq_true (isS c) with hs | hs
  · by_cases hz : splT c = 0
    · exact back_z0_ok c l v t hs hz hp w h
    · exact back_z1_ok c l v t hs hz hp w h
  · exact back_no_ok c l v t hs hp w h
  · by_cases hz : splT c = 0
    · exact back_z0_bad c l v t hs hz hp w h
    · exact back_z1_bad c l v t hs hz hp w h
  · exact back_no_bad c l v t hs hp w h

end Go.Proofs.YteimbnkeabgmnaaDoor
