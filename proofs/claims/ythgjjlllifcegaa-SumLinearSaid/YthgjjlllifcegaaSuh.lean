/- The statements of stage 9: the sum of however many pieces. -/
import Derived.Test.YthgjjlllifcegaaSuc
import Derived.Test.YthgjjlllifcegaaRws
import Derived.Test.YthgjjlllifcegaaPir
namespace Go.Proofs.Ythgjjlllifcegaa
open Go.RowKit

/-- append of bytes that read so. -/
theorem app_bs {w : World} {base : Nat} {v : Value} {n : Nat} {xs : List UInt8} (hown : w.ownsRow base 5 1 v n (bs xs)) {A : Option Addr} {m c : Nat} {ys : List UInt8} (hr : Rd w A c (bs ys)) (hm : m = ys.length) (hb : n + m ≤ 30000000000000) (hbase : base ≤ w.heap.size) :
    ∃ B d w', (Builtin.append_ #[22, 22] 22 #[v, .slice A m c]).run Try.prog w = .ok (.slice B (n + m) d) w' ∧ w'.ownsRow base 5 1 (.slice B (n + m) d) (n + m) (bs (xs ++ ys)) ∧ (∀ u, base = u.heap.size → Up u w → Up u w') := by
  obtain ⟨v', w4, hap, hown4, hg, _⟩ := elB.app (m := m) w 22 hown hr (by rw [bs_len]; exact hm) (one_bs ys) (by omega) (by omega) hbase
  rw [show bs xs ++ bs ys = bs (xs ++ ys) from by unfold bs; rw [List.map_append]] at hown4
  obtain ⟨B, d, rfl, _⟩ := own_rd hown4
  exact ⟨B, d, w4, hap, hown4, fun u hu hup => hup.own hg (fun g hg => by have := (hown.lt g hg).1; omega)⟩

/-- What stood in W stands. -/
theorem kept_up (W : World) : Kept (fun a b => Up W a → Up W b) := ⟨fun _ h => h, fun _ _ _ h1 h2 h => h2 (h1 h)⟩

set_option maxRecDepth 100000 in
set_option maxHeartbeats 800000 in
theorem sum_pieces_walk {rep : Nat → Nat} (H : SumOk rep) (W : World) (O : Option Addr) (len cap : Nat) (LL : List (List UInt8)) (hlen : LL.length = len) (_hlc : len ≤ cap) (_hcm : cap ≤ 9223372036854775807) (hin : RowsIn W O LL) :
    Calls Try.prog 8 #[.slice O len cap] W fun e w' => e = .returned (.bool true) ∧ Up W w' := by
  have c4 := Lib.hid (fun w => awake_9 H w)
  by_cases hb : 200 < len
  · clear H hin
    go_enter Try.func8, Try.ntmps8
    go_wp2_with fail
    refine (c4.out _).mono ?_
    rintro e w1 ⟨rfl, hu⟩
    go_wp2_with fail
    go_ret
    exact ⟨rfl, hu⟩
  have s0 := Lib.hid H.start
  have va := Lib.hid H.value
  have ad := Lib.hid H.add
  have of := Lib.hid H.of
  clear H
  go_enter Try.func8, Try.ntmps8
  go_wp2_with fail
  refine (s0.out W).mono ?_
  rintro e w1 ⟨rfl, hu1⟩
  go_wp2_with fail
  go_loopw [3, 4, 5] (fun s al i wr => ∃ (k : Nat) (T : List UInt8) (X : Option Addr) (cx : Nat), k ≤ len ∧ i = .int .i64 (k : Int) ∧ T.length ≤ 4000 ∧ s = .int .u32 (rep (crcOf T) : Int) ∧ al = .slice X T.length cx ∧ Hid (wr.ownsRow W.heap.size 5 1 (.slice X T.length cx) T.length (bs T)) ∧ Up W wr) (fun _ _ i _ => len - (intOf i).toNat)
  case atStart => exact ⟨0, [], none, 0, Nat.zero_le _, rfl, by simp, rfl, rfl, Lib.hid (World.ownsRow_nil _ _ _ _), hu1⟩
  case round =>
    obtain ⟨k, T, X, cx, hk, rfl, hT, rfl, rfl, hown, hu⟩ := hrel
    clear hu1
    by_cases hlt : k < len
    · have hkl : k < LL.length := by omega
      obtain ⟨a, A, c, rfl, hab, hcell, hrd⟩ := hin k hkl
      have hcv := Lib.hid (fun w' (u : Up W w') => show w'.cell? (a.add k) = some (.slice A LL[k].length c) from (Below.cell u (p := a.add k) (by rw [addr_block]; exact hab)).trans hcell)
      have hc0 := hcv.out wr hu
      by_cases hn2 : 2000 < LL[k].length
      · clear hcell hrd
        generalize LL[k].length = n at *
        go_wp2_with fail
        refine (c4.out _).mono ?_
        rintro e w2 ⟨rfl, hy⟩
        go_wp2_with fail
        go_ret
        exact ⟨rfl, hu.trans hy⟩
      by_cases ht2 : 2000 < T.length
      · clear hcell hrd
        generalize LL[k].length = n at *
        generalize T.length = t at *
        go_wp2_with fail
        refine (c4.out _).mono ?_
        rintro e w2 ⟨rfl, hy⟩
        go_wp2_with fail
        go_ret
        exact ⟨rfl, hu.trans hy⟩
      have hx := crcOf_lt T
      have hx2 := crcOf_lt (T ++ LL[k])
      have Ad := fun w' (u : Up W w') => ad.out A LL[k].length c (crcOf T) LL[k] w' hx (hrd.up u) rfl
      rw [← crcOf_append] at Ad
      have AD := Lib.hid Ad
      have Va := Lib.hid (fun w' => va.out (crcOf (T ++ LL[k])) w' hx2)
      have Of := Lib.hid (fun B e w' (hr : Rd w' B e (bs (T ++ LL[k]))) => of.out B (T.length + LL[k].length) e (T ++ LL[k]) w' hr (by rw [List.length_append]))
      have HR := Lib.hid hrd
      have hlen2 : (T ++ LL[k]).length = T.length + LL[k].length := List.length_append
      clear Ad hx hx2 hcell hrd
      generalize hy : crcOf (T ++ LL[k]) = y at *
      have HY := Lib.hid hy
      clear hy
      generalize crcOf T = x at *
      generalize hn : LL[k].length = n at *
      generalize ht : T.length = t at *
      go_wp2_with fail
      refine wp_region_pir (R := fun a b => Up W a → Up W b) [(0, false), (1, false), (2, false), (3, false), (4, false), (6, false), (7, false), (8, false), (9, false), (10, false), (5, true), (11, true), (12, false), (13, false)] (kept_up W) (by kernel_rfl) (by kernel_rfl) (fun _ _ d _ _ h => by cases d <;> exact h) ?_
      ((with_reducible apply pir_take); (focus exact rfl); (focus exact rfl); (focus (intro w' u1; have hcx := hcv.out w' (u1 hu.drew); go_simp; try with_reducible rfl; done)); dsimp only [Act.put]; simp only [List.setIfInBounds_toArray, List.set_cons_succ, List.set_cons_zero])
      ((with_reducible apply pir_take); (focus exact rfl); (focus exact rfl); (focus (intro w' u1; have hcx := hcv.out w' (u1 hu.drew); go_simp; try with_reducible rfl; done)); dsimp only [Act.put]; simp only [List.setIfInBounds_toArray, List.set_cons_succ, List.set_cons_zero])
      ((with_reducible apply pir_take); (focus exact rfl); (focus exact rfl); (focus (intro w' u1; have hcx := hcv.out w' (u1 hu.drew); go_simp; try with_reducible rfl; done)); dsimp only [Act.put]; simp only [List.setIfInBounds_toArray, List.set_cons_succ, List.set_cons_zero])
      ((with_reducible apply pir_take); (focus exact rfl); (focus exact rfl); (focus (intro w' u1; have hcx := hcv.out w' (u1 hu.drew); go_simp; try with_reducible rfl; done)); dsimp only [Act.put]; simp only [List.setIfInBounds_toArray, List.set_cons_succ, List.set_cons_zero])
      ((with_reducible apply pir_take); (focus exact rfl); (focus exact rfl); (focus (intro w' u1; have hcx := hcv.out w' (u1 hu.drew); go_simp; try with_reducible rfl; done)); dsimp only [Act.put]; simp only [List.setIfInBounds_toArray, List.set_cons_succ, List.set_cons_zero])
      ((with_reducible apply pir_take); (focus exact rfl); (focus exact rfl); (focus (intro w' u1; have hcx := hcv.out w' (u1 hu.drew); go_simp; try with_reducible rfl; done)); dsimp only [Act.put]; simp only [List.setIfInBounds_toArray, List.set_cons_succ, List.set_cons_zero])
      ((with_reducible apply pir_take); (focus exact rfl); (focus exact rfl); (focus (intro w' u1; have hcx := hcv.out w' (u1 hu.drew); go_simp; try with_reducible rfl; done)); dsimp only [Act.put]; simp only [List.setIfInBounds_toArray, List.set_cons_succ, List.set_cons_zero])
      ((with_reducible apply pir_take); (focus exact rfl); (focus exact rfl); (focus (intro w' u1; have hcx := hcv.out w' (u1 hu.drew); go_simp; try with_reducible rfl; done)); dsimp only [Act.put]; simp only [List.setIfInBounds_toArray, List.set_cons_succ, List.set_cons_zero])
      ((with_reducible apply pir_take); (focus exact rfl); (focus exact rfl); (focus (intro w' u1; have hcx := hcv.out w' (u1 hu.drew); go_simp; try with_reducible rfl; done)); dsimp only [Act.put]; simp only [List.setIfInBounds_toArray, List.set_cons_succ, List.set_cons_zero])
      ((with_reducible apply pir_take); (focus exact rfl); (focus exact rfl); (focus (intro w' u1; have hcx := hcv.out w' (u1 hu.drew); go_simp; try with_reducible rfl; done)); dsimp only [Act.put]; simp only [List.setIfInBounds_toArray, List.set_cons_succ, List.set_cons_zero])
      refine pir_make rfl rfl (fun K hK => ?_)
      go_simp
      refine (AD.out _ hu.drew).mono ?_
      rintro e w5 ⟨rfl, hz⟩
      have hu5 : Up W w5 := hu.drew.trans hz
      refine hK.out _ _ (fun _ => hu5) ?_
      obtain ⟨B6, d6, w6, hap, hown6, hu6⟩ := app_bs (own_up hown.out (Up.of_drew hz)) (HR.out.up hu5) hn.symm (by omega) hu5.size
      have hu6 := hu6 W rfl hu5
      have HA := Lib.hid hap
      have HO := Lib.hid hown6
      clear hK K hz hap hown6 hown AD
      refine pir_make rfl rfl (fun K hK => ?_)
      refine wp_app _ _ _ rfl rfl rfl HA.out (hK.out _ _ (fun _ => hu6) ?_)
      clear hK K HA
      dsimp only [Act.put]; simp only [List.setIfInBounds_toArray, List.set_cons_succ, List.set_cons_zero]
      ((with_reducible apply pir_take); (focus exact rfl); (focus exact rfl); (focus (intro w' u1; go_simp; try with_reducible rfl; done)); dsimp only [Act.put]; simp only [List.setIfInBounds_toArray, List.set_cons_succ, List.set_cons_zero])
      ((with_reducible apply pir_take); (focus exact rfl); (focus exact rfl); (focus (intro w' u1; go_simp; try with_reducible rfl; done)); dsimp only [Act.put]; simp only [List.setIfInBounds_toArray, List.set_cons_succ, List.set_cons_zero])
      refine pir_done ?_
      go_wp2_with fail
      refine (Va.out _).mono ?_
      rintro e w7 ⟨rfl, hz⟩
      have HO7 := Lib.hid (own_up HO.out hz)
      have hu7 := hu6.trans hz
      clear hz HO hu6
      go_wp2_with fail
      refine (Of.out _ _ _ (own_read HO7.out)).mono ?_
      rintro e w8 ⟨rfl, hz⟩
      go_wp2_with fail
      go_roundw
      case rel => exact ⟨k + 1, T ++ LL[k], B6, d6, by omega, by go_num, by rw [hlen2]; omega, by rw [HY.out], by rw [hlen2], Lib.hid (by rw [hlen2]; exact own_up HO7.out hz), hu7.trans hz⟩
      case measure => simp [intOf]; omega
    · have hk2 : k = len := by omega
      go_wp2_with fail
      refine (c4.out _).mono ?_
      rintro e w5 ⟨rfl, hy⟩
      go_wp2_with fail
      go_ret
      exact ⟨rfl, hu.trans hy⟩

end Go.Proofs.Ythgjjlllifcegaa
