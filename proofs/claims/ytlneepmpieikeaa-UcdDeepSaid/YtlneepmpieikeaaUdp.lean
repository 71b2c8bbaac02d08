/- The statement UcdDeep: the walk. -/
import Derived.Test.YtlneepmpieikeaaUde
import Derived.Test.YtlneepmpieikeaaUaw
import Derived.Test.YtlneepmpieikeaaApp
import Derived.WalkSmall
namespace Go.Proofs.Ytlneepmpieikeaa
open Go.RowKit

open Go.RowKit

theorem Up.grownBy3 {w w' : World} (h : Up w w') : w.grownBy w' none := ⟨h.os, h.tape, h.output, h.size, fun k hk _ => h.block k hk⟩
theorem own_up3 {w w' : World} {base : Nat} {E : TypeId} {v : Value} {n : Nat} {xs : List Value} (h : w.ownsRow base E 1 v n xs) (hu : Up w w') : w'.ownsRow base E 1 v n xs :=
  h.kept hu.grownBy3 (by cases v.ownBlock <;> simp)
theorem Up.grown3 {w wr w' : World} {row : Option Nat} (h : Up w wr) (hg : wr.grownBy w' row) (hr : ∀ k, row = some k → w.heap.size ≤ k) : Up w w' := Below.grown h hg h.size hr

theorem El.push3 {T E : TypeId} {b : Nat} (h : El T E b) (w : World) (ty : TypeId) {base : Nat} {v : Value} {n : Nat} {xs : List Value} (hown : w.ownsRow base E 1 v n xs) (x : Value) (hx : x.oneCell' = true)
    (hb : (n + 1) * b ≤ 140737488355328) (hb0 : 0 < b) (hbase : base ≤ w.heap.size) :
    ∃ v' w', (Builtin.append_ #[T, T] ty #[v, .slice (some ⟨w.heap.size, 0, none⟩) 1 1]).run Try.prog (w.alloc (.cells #[x] E)) = .ok v' w' ∧ w'.ownsRow base E 1 v' (n + 1) (xs ++ [x]) ∧
      (w.alloc (.cells #[x] E)).grownBy w' v.ownBlock := by
  obtain ⟨v', w', h1, h2, h3, _⟩ := h.app (m := 1) (news := [x]) (w.alloc (.cells #[x] E)) ty (hown.alloc _) (Rd.new (n := 1) w #[x] E rfl rfl (by unfold maxLen; omega)) rfl (fun u hu => by rw [List.mem_singleton.1 hu]; exact hx) hb hb0 (by simp; omega)
  exact ⟨v', w', h1, h2, h3⟩
theorem El.push32 {T E : TypeId} {b : Nat} (h : El T E b) (w : World) (ty : TypeId) {base : Nat} {v : Value} {n : Nat} {xs : List Value} (hown : w.ownsRow base E 1 v n xs) (x y : Value) (hx : x.oneCell' = true) (hy : y.oneCell' = true)
    (hb : (n + 2) * b ≤ 140737488355328) (hb0 : 0 < b) (hbase : base ≤ w.heap.size) :
    ∃ v' w', (Builtin.append_ #[T, T] ty #[v, .slice (some ⟨w.heap.size, 0, none⟩) 2 2]).run Try.prog (w.alloc (.cells #[x, y] E)) = .ok v' w' ∧ w'.ownsRow base E 1 v' (n + 2) (xs ++ [x, y]) ∧
      (w.alloc (.cells #[x, y] E)).grownBy w' v.ownBlock := by
  obtain ⟨v', w', h1, h2, h3, _⟩ := h.app (m := 2) (news := [x, y]) (w.alloc (.cells #[x, y] E)) ty (hown.alloc _) (Rd.new (n := 2) w #[x, y] E rfl rfl (by unfold maxLen; omega)) rfl (fun u hu => by
    rcases List.mem_cons.1 hu with e | e
    · rw [e]; exact hx
    · rw [List.mem_singleton.1 e]; exact hy) hb hb0 (by simp; omega)
  exact ⟨v', w', h1, h2, h3⟩

set_option maxRecDepth 100000 in
set_option maxHeartbeats 800000 in
theorem deep_of (H : UcdOk) (c : Nat) (w : World) : Calls Try.prog 9 #[.int .u32 (c : Int)] w fun e w' => e = .returned (.bool true) ∧ Up w w' := by
  have c1 := Lib.hid (fun x w => H.dec x w)
  have c2 := Lib.hid (fun w => awake_3 H w)
  clear H
  have r0 : Rd (w.alloc (.cells #[.int .u32 (c : Int)] 22)) (some ⟨w.heap.size, 0, none⟩) 1 (us [c]) := Rd.new w _ _ rfl rfl (by unfold maxLen; omega)
  have R0 := Lib.hid r0
  have I0 := Lib.hid (inv_start c)
  clear r0
  go_enter Try.func9, Try.ntmps9
  go_wp2_with fail
  go_loopw [3, 4] (fun l i wr => ∃ (k : Nat) (A : Option Addr) (d : Nat) (lst : List Nat), k ≤ 3 ∧ l = .slice A lst.length d ∧ i = .int .i64 (k : Int) ∧ Hid (Inv k lst) ∧ Hid (Rd wr A d (us lst)) ∧ Up w wr) (fun _ i _ => 3 - (intOf i).toNat)
  case atStart => exact ⟨0, _, _, [c], by omega, rfl, rfl, I0, R0, (Up.refl w).alloc _⟩
  case round =>
    obtain ⟨k, A, d, lst, hk, rfl, rfl, hI, hR, hu⟩ := hrel
    clear R0 I0
    have hl := inv_len hI.out
    rename World => wo
    by_cases hlt : k < 3
    · go_wp2_with fail
      rw [show decide ((k : Int) < 3) = true from decide_eq_true (by omega)]
      go_loopw [5, 6] (fun v i wx => ∃ j n : Nat, j ≤ lst.length ∧ i = .int .i64 (j : Int) ∧ n ≤ 2 * j ∧ Hid (n = (flat (lst.take j)).length) ∧ Hid (wx.ownsRow wo.heap.size 22 1 v n (us (flat (lst.take j)))) ∧ Up wo wx) (fun _ i _ => lst.length - (intOf i).toNat)
      case atStart => exact ⟨0, 0, by omega, rfl, by omega, Lib.hid rfl, Lib.hid (World.ownsRow_nil wo _ _ 1), Up.refl wo⟩
      case round =>
        obtain ⟨j, n, hj, rfl, hn2, HN, HO, hux⟩ := hrel
        by_cases hjl : j < lst.length
        · have hrd := hR.out.up hux
          obtain ⟨a, rfl, _⟩ := hrd.ad (by have := hrd.fit; rw [us_len] at this; omega)
          have HX := Lib.hid (us_get lst j hjl)
          have HS := Lib.hid (flat_snoc hjl)
          have C1 := c1.out lst[j]
          have hcell : wr.cell? (a.add j) = some (.int .u32 (lst[j] : Int)) := hrd.cell a rfl j _ HX.out
          unfold stepL at HS
          generalize lst[j] = x at *
          generalize decA x = p at *
          generalize decB x = q at *
          generalize decOk x = ok at *
          cases ok with
          | false =>
            rw [if_neg Bool.false_ne_true] at HS
            go_wp2_with fail
            refine (C1 _).mono ?_
            rintro e w2 ⟨rfl, hu2⟩
            have hown1 := own_up3 HO.out hu2
            have hcell2 : w2.cell? (a.add j) = some (.int .u32 (x : Int)) := (hrd.up hu2).cell a rfl j _ HX.out
            obtain ⟨v', w3, hap, hown3, hg⟩ := elU.push3 w2 34 hown1 (.int .u32 (x : Int)) rfl (by omega) (by omega) (Nat.le_trans hux.size hu2.size)
            have hu4 : Up wo w3 := ((hux.trans hu2).alloc _).grown3 hg (fun g hg => (hown1.lt g hg).1)
            have HA := Lib.hid hap
            have HO3 := Lib.hid hown3
            clear hap hown3 hg hown1
            go_wp2_with (at_builtin; refine wpList_app rfl _ _ _ rfl rfl rfl HA.out ?_)
            go_roundw
            case rel =>
              refine ⟨j + 1, n + 1, by omega, by go_num, by omega, Lib.hid (by rw [HS.out, List.length_append, ← HN.out]; rfl), Lib.hid (by rw [HS.out, us_append]; exact HO3.out), hu4⟩
            case measure => simp [intOf]; omega
          | true =>
            rw [if_pos rfl] at HS
            by_cases hq : q = 0
            · rw [if_pos hq] at HS
              subst hq
              go_wp2_with fail
              refine (C1 _).mono ?_
              rintro e w2 ⟨rfl, hu2⟩
              have hown1 := own_up3 HO.out hu2
              have hcell2 : w2.cell? (a.add j) = some (.int .u32 (x : Int)) := (hrd.up hu2).cell a rfl j _ HX.out
              obtain ⟨v', w3, hap, hown3, hg⟩ := elU.push3 w2 34 hown1 (.int .u32 (p : Int)) rfl (by omega) (by omega) (Nat.le_trans hux.size hu2.size)
              have hu4 : Up wo w3 := ((hux.trans hu2).alloc _).grown3 hg (fun g hg => (hown1.lt g hg).1)
              have HA := Lib.hid hap
              have HO3 := Lib.hid hown3
              clear hap hown3 hg hown1
              go_wp2_with (at_builtin; refine wpList_app rfl _ _ _ rfl rfl rfl HA.out ?_)
              go_roundw
              case rel =>
                refine ⟨j + 1, n + 1, by omega, by go_num, by omega, Lib.hid (by rw [HS.out, List.length_append, ← HN.out]; rfl), Lib.hid (by rw [HS.out, us_append]; exact HO3.out), hu4⟩
              case measure => simp [intOf]; omega
            · rw [if_neg hq] at HS
              have hne : ((q : Int) == 0) = false := by simp; omega
              go_wp2_with fail
              refine (C1 _).mono ?_
              rintro e w2 ⟨rfl, hu2⟩
              have hown1 := own_up3 HO.out hu2
              have hcell2 : w2.cell? (a.add j) = some (.int .u32 (x : Int)) := (hrd.up hu2).cell a rfl j _ HX.out
              obtain ⟨v', w3, hap, hown3, hg⟩ := elU.push32 w2 34 hown1 (.int .u32 (p : Int)) (.int .u32 (q : Int)) rfl rfl (by omega) (by omega) (Nat.le_trans hux.size hu2.size)
              have hu4 : Up wo w3 := ((hux.trans hu2).alloc _).grown3 hg (fun g hg => (hown1.lt g hg).1)
              have HA := Lib.hid hap
              have HO3 := Lib.hid hown3
              clear hap hown3 hg hown1
              go_wp2_with (at_builtin; refine wpList_app rfl _ _ _ rfl rfl rfl HA.out ?_)
              go_roundw
              case rel =>
                refine ⟨j + 1, n + 2, by omega, by go_num, by omega, Lib.hid (by rw [HS.out, List.length_append, ← HN.out]; rfl), Lib.hid (by rw [HS.out, us_append]; exact HO3.out), hu4⟩
              case measure => simp [intOf]; omega
        · have hjn : j = lst.length := by omega
          subst hjn
          have hown := HO.out
          have hn := HN.out
          rw [List.take_of_length_le (Nat.le_refl _)] at hown hn
          obtain ⟨A', d', rfl, hrd'⟩ := own_rd hown
          have HR' := Lib.hid hrd'
          have HI' := Lib.hid (inv_step hlt hI.out)
          have HN' := Lib.hid hn
          clear hown hn hrd' HO HN
          go_wp2_with fail
          go_roundw
          case rel => exact ⟨k + 1, A', d', flat lst, by omega, by rw [HN'.out], by go_num, HI', HR', hu.trans hux⟩
          case measure => simp only [intOf]; omega
    · have he := inv_end (show Inv 3 lst by rw [show 3 = k by omega]; exact hI.out)
      have HE := Lib.hid he
      clear he
      go_wp2_with fail
      rw [show decide ((k : Int) < 3) = false from decide_eq_false (by omega)]
      go_loopw [10] (fun i wx => ∃ j : Nat, j ≤ lst.length ∧ i = .int .i64 (j : Int) ∧ Up wo wx) (fun i _ => lst.length - (intOf i).toNat)
      case atStart => exact ⟨0, by omega, rfl, Up.refl wo⟩
      case round =>
        obtain ⟨j, hj, rfl, hux⟩ := hrel
        by_cases hjl : j < lst.length
        · have hrd := hR.out.up hux
          obtain ⟨a, rfl, _⟩ := hrd.ad (by have := hrd.fit; rw [us_len] at this; omega)
          have C1 := c1.out lst[j]
          have hcell : wr.cell? (a.add j) = some (.int .u32 (lst[j] : Int)) := hrd.cell a rfl j _ (us_get lst j hjl)
          have hok : decOk lst[j] = false := by unfold decOk; rw [HE.out.1 _ (List.getElem_mem hjl)]; rfl
          rw [hok] at C1
          clear hok
          generalize lst[j] = x at *
          go_wp2_with fail
          refine (C1 _).mono ?_
          rintro e w2 ⟨rfl, hu2⟩
          go_wp2_with fail
          go_roundw
          case rel => exact ⟨j + 1, by omega, by go_num, hux.trans hu2⟩
          case measure => simp [intOf]; omega
        · have h1 := HE.out.2.1
          have h2 := HE.out.2.2
          go_wp2_with fail
          refine (c2.out _).mono ?_
          rintro e w3 ⟨rfl, hu3⟩
          go_wp2_with fail
          go_ret
          exact ⟨rfl, (hu.trans hux).trans hu3⟩

end Go.Proofs.Ytlneepmpieikeaa
