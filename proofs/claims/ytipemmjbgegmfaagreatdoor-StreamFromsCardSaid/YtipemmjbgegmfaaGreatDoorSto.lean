/- Stage 10's awake. -/
import Derived.Test.YtipemmjbgegmfaaGreatDoorStq
namespace Go.Proofs.YtipemmjbgegmfaaGreatDoor
open Go.RowKit Go.Proofs.YtipemmjbgegmfaaGreatDoor.Ordr Go.Proofs.YtipemmjbgegmfaaGreatDoor.Cmpr

theorem StreamOk.up {G : World → Prop} {Rep : (Nat → Prop) → World → Nat → SS → Prop} (H : StreamOk G Rep) {X : Nat → Prop} {w w' : World} {g : Nat} {s : SS} (h : Rep X w g s) (u : Up w w') : Rep X w' g s :=
  H.stay X (fun _ => False) w w' g s h (Fx.of_up u) (fun _ _ h => h)
/-- What the calls of a stream leave, apart. -/
theorem Gave.out {Rep : (Nat → Prop) → World → Nat → SS → Prop} {X : Nat → Prop} {W w : World} {g : Nat} {t : List UInt8} {s : SS} {e : Ending} {w' : World} (h : Gave Rep X w g t s e w') (hW : Up W w) (hX : ∀ k, X k → W.heap.size ≤ k) :
    ∃ X' B c, e = .returned (.tuple #[.slice B t.length c, .int .i64 (s.err : Int)]) ∧ w'.ownsRow w.heap.size 5 1 (.slice B t.length c) t.length (bs t) ∧ Off X' (.slice B t.length c) ∧ Rep X' w' g s ∧ Fx X w w' ∧ (∀ k, X' k → X k ∨ w.heap.size ≤ k) ∧ Up W w' ∧ ∀ k, X' k → W.heap.size ≤ k := by
  obtain ⟨X', B, c, h1, h2, h3, h4, h5, h6⟩ := h
  refine ⟨X', B, c, h1, h2, h3, h4, h5, h6, hW.fx h5 hX, fun k hk => ?_⟩
  rcases h6 k hk with h7 | h7
  · exact hX k h7
  · exact Nat.le_trans hW.size h7

set_option maxRecDepth 100000 in
set_option maxHeartbeats 800000 in
theorem awake_10 {G : World → Prop} {Rep : (Nat → Prop) → World → Nat → SS → Prop} (hG : Ground G) (H : StreamOk G Rep) (w : World) (h : G w) : Calls Tryz.prog 6 #[] w fun e w' => e = .returned (.bool true) ∧ Up w w' := by
  obtain ⟨sa, sb, sc, ea, ta, era, oka, eb, tb, erb, okb, ec, tc, erc, hin, hout⟩ := awake_vals
  have c0 := Lib.hid (H.new w h)
  have W1 := fun (X : Nat → Prop) (w1 : World) (g : Nat) (u : Up w w1) (hR : Rep X w1 g SS.new) => H.write X (w1.alloc (.cells (bs [65]).toArray 5)) g SS.new 0 (some ⟨w1.heap.size, 0, none⟩) 1 1 [65] (hG _ _ h (u.alloc _)) (H.up hR ((Up.refl w1).alloc _)) SS.new_ok (by omega) (rd_lit w1 [65] 1 rfl (by omega)) rfl (fun _ a ha hx => by
    injection ha with ha
    subst ha
    exact Nat.lt_irrefl _ (H.lt _ _ _ _ hR _ hx))
  have W2 := fun (X : Nat → Prop) (w1 : World) (g : Nat) (u : Up w w1) (hR : Rep X w1 g sa) => H.write X (w1.alloc (.cells (bs [204, 129, 66]).toArray 5)) g sa 1 (some ⟨w1.heap.size, 0, none⟩) 3 3 [204, 129, 66] (hG _ _ h (u.alloc _)) (H.up hR ((Up.refl w1).alloc _)) oka (by omega) (rd_lit w1 [204, 129, 66] 3 rfl (by omega)) rfl (fun _ a ha hx => by
    injection ha with ha
    subst ha
    exact Nat.lt_irrefl _ (H.lt _ _ _ _ hR _ hx))
  have W3 := fun (X : Nat → Prop) (w1 : World) (g : Nat) (u : Up w w1) (hR : Rep X w1 g sb) => H.fin X w1 g sb 4 (hG _ _ h u) hR okb (by omega)
  rw [ea, ta] at W1
  rw [eb, tb] at W2
  rw [ec, tc] at W3
  have M := Lib.hid (fun X w' g (hR : Rep X w' g sc) => H.mark X w' g sc hR)
  have U := Lib.hid (fun X w1 w2 g (hR : Rep X w1 g sc) (u : Up w1 w2) => H.up hR u)
  have E1 := Lib.hid era
  have E2 := Lib.hid erb
  have E3 := Lib.hid erc
  have HM := Lib.hid (show aggM sc = .agg #[.int .i64 4, .int .i64 3, .int .u32 (sc.sin : Int), .int .u32 (sc.sout : Int)] by unfold aggM; rw [hin, hout]; rfl)
  have V1 := Lib.hid W1
  have V2 := Lib.hid W2
  have V3 := Lib.hid W3
  clear W1 W2 W3 ea ta era oka eb tb erb okb ec tc erc hin hout H
  go_enter Tryz.func6, Tryz.ntmps6
  go_wp2_with fail
  refine c0.out.mono ?_
  rintro e w1 ⟨X1, g, rfl, hR1, hu1, hX1⟩
  have d1 := Lib.hid (V1.out X1 w1 g hu1 hR1)
  clear V1 hR1 c0
  go_wp2_with fail
  refine d1.out.mono ?_
  intro e w2 hp
  obtain ⟨X2, B2, b2, rfl, hO2, _, hR2, _, _, hu2, hX2⟩ := hp.out (hu1.alloc _) hX1
  rw [E1.out]
  have d2 := Lib.hid (V2.out X2 w2 g hu2 hR2)
  clear V2 hR2 hp d1 hO2 hX1 hu1
  go_wp2_with fail
  refine d2.out.mono ?_
  intro e w3 hp
  obtain ⟨X3, B3, b3, rfl, hO3, hf3, hR3, _, hk3, hu3, hX3⟩ := hp.out (hu2.alloc _) hX2
  rw [E2.out]
  have d3 := Lib.hid (V3.out X3 w3 g hu3 hR3)
  clear V3 hR3 hp d2 hX2 hu2
  go_wp2_with fail
  refine d3.out.mono ?_
  intro e w4 hp
  obtain ⟨X4, B4, b4, rfl, hO4, hf4, hR4, hx4, hk4, hu4, hX4⟩ := hp.out hu3 hX3
  rw [E3.out]
  have s3 := Rd.str (n := 2) (own_read (own_fx hO3 hx4 hf3)) rfl
  have s4 := Rd.str (n := 1) (own_read hO4) rfl
  have m1 := Lib.hid (M.out X4 w4 g hR4)
  have m2 := Lib.hid (fun w' u => M.out X4 w' g (U.out X4 w4 w' g hR4 u))
  rw [HM.out] at m1 m2
  clear hp d3 hO3 hO4 hf3 hf4 hx4 hk3 hk4 hX3 hX4 hR4 hu3 M U
  have f0 := mark_0
  have f1 := mark_1
  go_wp2_with fail
  refine m1.out.mono ?_
  rintro e w5 ⟨rfl, hu5⟩
  go_wp2_with fail
  refine (m2.out w5 hu5).mono ?_
  rintro e w6 ⟨rfl, hu6⟩
  go_wp2_with fail
  go_ret
  exact ⟨rfl, (hu4.trans hu5).trans hu6⟩

end Go.Proofs.YtipemmjbgegmfaaGreatDoor
