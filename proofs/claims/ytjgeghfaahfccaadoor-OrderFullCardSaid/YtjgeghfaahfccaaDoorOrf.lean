/- The statements of stage 6: a full decomposition is in order. -/
import Derived.Test.YtjgeghfaahfccaaDoorOrv
import Derived.Test.YtjgeghfaahfccaaDoorDca
import Derived.Test.YtjgeghfaahfccaaDoorFur
namespace Go.Proofs.YtjgeghfaahfccaaDoor
open Go.RowKit Go.Proofs.YtjgeghfaahfccaaDoor.Ordr

set_option maxRecDepth 100000 in
theorem full_of6 (H : OrderOk) (HD : DecompOk) (c : Nat) (hc : c < 4294967296) (w : World) (h : HRows w) : Calls Tryd.prog 8 #[.int .u32 (c : Int)] w fun e w' => e = .returned (.bool true) ∧ Up w w' := by
  have c4 := Lib.hid (fun w => awake_6 H w)
  have c1 := Lib.hid (HD.full c w h hc)
  have hfl := full_len c
  have hlt := full_lt c hc
  have ho := full_ord c
  have hs := ord_stay clsOf ho
  have c2 := Lib.hid (fun B e w' (hr : Rd w' B e (us (full c))) => H.is B (full c).length e (full c) w' hr rfl (by omega) hlt)
  have c3 := Lib.hid (fun B e w' (hr : Rd w' B e (us (full c))) => H.order B (full c).length e (full c) w' hr rfl (by omega) hlt)
  rw [(ordB_iff clsOf (full c)).2 ho] at c2
  rw [hs] at c3
  clear H HD hlt ho hs
  generalize full c = F at *
  go_enter Tryd.func8, Tryd.ntmps8
  go_wp2_with fail
  refine c1.out.mono ?_
  rintro e w1 ⟨B, d1, rfl, hO, hu1⟩
  have HO := Lib.hid hO
  have C2 := Lib.hid (c2.out B d1 w1 (own_read hO))
  clear hO c1 c2
  go_wp2_with fail
  refine C2.out.mono ?_
  rintro e w2 ⟨rfl, hu2⟩
  have C3 := Lib.hid (c3.out B d1 w2 (own_read (own_up HO.out hu2)))
  clear C2 c3
  go_wp2_with fail
  refine C3.out.mono ?_
  rintro e w3 ⟨D, d3, rfl, hO3, hu3⟩
  have hs := same_gen D B d3 d1 F.length F.length F F _ (own_read hO3) (own_read (own_up HO.out (hu2.trans hu3))) rfl rfl
  rw [decide_eq_true (show F = F from rfl)] at hs
  have HS := Lib.hid hs
  clear C3 hs hO3
  go_wp2_with fail
  refine HS.out.mono ?_
  rintro e w4 ⟨rfl, hu4⟩
  go_wp2_with fail
  refine (c4.out _).mono ?_
  rintro e w5 ⟨rfl, hu5⟩
  go_wp2_with fail
  go_ret
  exact ⟨rfl, (((hu1.trans hu2).trans hu3).trans hu4).trans hu5⟩

theorem order_full_walk (H : OrderOk) (HD : DecompOk) (w : World) (h : HRows w) (n : Int) (hn : 0 ≤ n ∧ n < 4294967296) : Calls Tryd.prog 8 #[.int .u32 n] w fun e w' => e = .returned (.bool true) ∧ Up w w' := by
  obtain ⟨c, rfl⟩ := Int.eq_ofNat_of_zero_le hn.1
  exact full_of6 H HD c (by omega) w h

end Go.Proofs.YtjgeghfaahfccaaDoor
