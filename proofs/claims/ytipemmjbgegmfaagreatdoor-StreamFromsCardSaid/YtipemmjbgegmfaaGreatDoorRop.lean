/- The document's Open. Written by program (wip/tools/rop.py). -/
import Derived.Test.YtipemmjbgegmfaaGreatDoorTls
import Derived.Test.YtipemmjbgegmfaaGreatDoorCdx
namespace Go.Proofs.YtipemmjbgegmfaaGreatDoor
open Go.RowKit

theorem kept_below (B : Nat) : Kept (Below B) := ⟨Below.refl B, fun _ _ _ => Below.trans⟩
theorem Below.rd' {B : Nat} {w w' : World} {A : Option Addr} {c : Nat} {xs : List Value} (h : Rd w A c xs) (hu : Below B w w') (hB : 0 < c → ∀ a, A = some a → a.block < B) : Rd w' A c xs := by
  refine ⟨h.fit, h.max, fun hc => ?_, h.nil, fun a ha j u hj => ?_⟩
  · obtain ⟨a, ha, hb⟩ := h.ad hc
    exact ⟨a, ha, Nat.lt_of_lt_of_le hb hu.size⟩
  · have hlen : 0 < c := by
      have := (List.getElem?_eq_some_iff.1 hj).1
      have := h.fit
      omega
    exact (Below.cell hu (p := a.add j) (by rw [addr_block]; exact hB hlen a ha)).trans (h.cell a ha j u hj)

/-- 'append(append([]byte{}, x...), y...)'. -/
theorem two_app (w : World) {A B : Option Addr} {m c n d : Nat} {l1 l2 : List UInt8} (hr : Rd w A c (bs l1)) (hm : m = l1.length) (hs : Rd w B d (bs l2)) (hn : n = l2.length) (hb : m + n ≤ 140737488355328) :
    ∃ A1 c1 w1 A2 c2 w2, (Builtin.append_ #[31, 31] 31 #[.slice (some ⟨w.heap.size, 0, none⟩) 0 0, .slice A m c]).run Tryz.prog (w.alloc (.cells #[] 5)) = .ok (.slice A1 m c1) w1 ∧
      (Builtin.append_ #[31, 31] 31 #[.slice A1 m c1, .slice B n d]).run Tryz.prog w1 = .ok (.slice A2 (m + n) c2) w2 ∧ Rd w2 A2 c2 (bs (l1 ++ l2)) ∧
      Below w.heap.size (w.alloc (.cells #[] 5)) w1 ∧ Below w.heap.size w1 w2 ∧ Up w w2 ∧ w2.ownsRow w.heap.size 5 1 (.slice A2 (m + n) c2) (m + n) (bs (l1 ++ l2)) := by
  have hown : (w.alloc (.cells #[] 5)).ownsRow w.heap.size 5 1 (.slice (some ⟨w.heap.size, 0, none⟩) 0 0) 0 [] := World.ownsRow_made w #[] 0 (Nat.le_refl _) (Nat.zero_le _) rfl
  obtain ⟨v1, w1, hrun, hown1, hg1, _⟩ := elB.app (w.alloc (.cells #[] 5)) 31 (m := m) hown (hr.up ((Up.refl w).alloc _)) (by rw [bs_len]; exact hm) (one_bs l1) (by omega) (by decide) (by simp)
  have hb1 : Below w.heap.size (w.alloc (.cells #[] 5)) w1 := Below.grown (Below.refl _ _) hg1 (by simp) (fun k hk => (World.ownsRow.lt hown k hk).1)
  have hu1 : Up w w1 := Below.trans ((Up.refl w).alloc (.cells #[] 5)) hb1
  simp only [Nat.zero_add, List.nil_append] at hown1
  obtain ⟨A1, c1, rfl, _⟩ := own_rd hown1
  obtain ⟨v2, w2, hrun2, hown2, hg2, _⟩ := elB.app w1 31 (m := n) hown1 (hs.up hu1) (by rw [bs_len]; exact hn) (one_bs l2) (by omega) (by decide) hu1.size
  have hb2 : Below w.heap.size w1 w2 := Below.grown (Below.refl _ _) hg2 hu1.size (fun k hk => (World.ownsRow.lt hown1 k hk).1)
  rw [← bs_append] at hown2
  obtain ⟨A2, c2, rfl, hrd⟩ := own_rd hown2
  exact ⟨A1, c1, w1, A2, c2, w2, hrun, hrun2, hrd, hb1, hb2, Below.trans hu1 hb2, hown2⟩

set_option maxRecDepth 100000 in
theorem ropen_no (A : Option Addr) (c n : Nat) (l : List UInt8) (w : World) (h : Rd w A c (bs l)) (hn : n = l.length) (hno : n < 1 ∨ 3 < n ∨ (1 ≤ n ∧ n ≤ 3 ∧ U.fault l < 0)) :
    Calls Tryz.prog 21 #[.slice A n c] w fun e w' => e = .returned (.bool false) ∧ Up w w' := by
  have hf := h.fit
  have hmx := h.max
  rw [bs_len] at hf
  unfold maxLen at hmx
  have hnm : n ≤ 9223372036854775807 := by omega
  have hfl := fault_ref A c n l w h hn
  clear hf hmx h hn
  rcases hno with h1 | h1 | ⟨h1, h2, h3⟩
  · obtain rfl : n = 0 := by omega
    go_enter Tryz.func21, Tryz.ntmps21
    go_wp2_with fail
    go_ret
    exact ⟨rfl, Up.refl w⟩
  · have h2 : 1 ≤ n := by omega
    go_enter Tryz.func21, Tryz.ntmps21
    go_wp2_with fail
    go_ret
    exact ⟨rfl, Up.refl w⟩
  · generalize U.fault l = f at *
    go_enter Tryz.func21, Tryz.ntmps21
    go_wp2_with fail
    refine hfl.mono ?_
    rintro e w1 ⟨rfl, hu⟩
    go_wp2_with fail
    go_ret
    exact ⟨rfl, hu⟩

set_option maxRecDepth 100000 in
set_option maxHeartbeats 3200000 in
theorem ropen_yes (A : Option Addr) (c n : Nat) (l : List UInt8) (w : World) (h : Rd w A c (bs l)) (Hn : Hid (n = l.length)) (h1 : 1 ≤ n) (h3 : n ≤ 3) (hf0 : 0 ≤ U.fault l) :
    Calls Tryz.prog 21 #[.slice A n c] w fun e w' => e = .returned (.bool (decide (U.opn l))) ∧ Up w w' := by
  have hfl := fault_ref A c n l w h Hn.out
  have hnil : l ≠ [] := fun e => by have := Hn.out; rw [e] at this; simp at this; omega
  have Hnil := Lib.hid hnil
  obtain ⟨d, hd⟩ : ∃ d, decide (U.opn l) = d := ⟨_, rfl⟩
  rw [hd]
  have HD := Lib.hid hd
  clear hd hnil
  generalize U.fault l = fl at *
  go_enter Tryz.func21, Tryz.ntmps21
  go_wp2_with fail
  refine hfl.mono ?_
  rintro e w1 ⟨rfl, hu1⟩
  clear hfl
  go_wp2_with fail
  go_loopw [3] (fun i wr => ∃ p : Nat, 1 ≤ p ∧ p + n ≤ 5 ∧ i = .int .i64 p ∧ Hid (∀ p', 1 ≤ p' → p' < p → ∀ t ∈ U.tails p', (U.one (l ++ t)).2 ≠ p' + l.length) ∧ Up w wr) (fun i _ => 5 - (intOf i).toNat)
  case atStart => exact ⟨1, by omega, by omega, rfl, Lib.hid (fun p' h1 h2 => by omega), hu1⟩
  case round =>
    obtain ⟨p, hp1, hp5, rfl, hno, hu⟩ := hrel
    generalize wr = wA at *
    clear hu1
    by_cases hlt : p + n ≤ 4
    · go_wp2_with fail
      refine (tails_ref wA p (by omega)).mono ?_
      rintro e wB ⟨v, fs, rfl, hrow, huB, hfs⟩
      have hTl := fun (i : Nat) h => tails_at p i h
      have hTn : (U.tails p).length ≤ 512 := by
        rw [tails_len]
        have : 8 ^ p ≤ 8 ^ 3 := Nat.pow_le_pow_right (by decide) (by omega)
        omega
      have HM := Lib.hid (fun (i : Nat) (h : i < (U.tails p).length) => List.getElem_mem (l := U.tails p) h)
      have HE := Lib.hid (fun (t : List UInt8) (ht : t ∈ U.tails p) => List.mem_iff_getElem.1 ht)
      have HT := Lib.hid (rfl : U.tails p = U.tails p)
      obtain ⟨A0, c0, rfl, hc0, hcm⟩ := hrow.val
      obtain ⟨T, hT⟩ : ∃ T, U.tails p = T := ⟨_, rfl⟩
      rw [hT] at hrow hTl hTn HM HE HT hc0 ⊢
      have HT2 := Lib.hid hT
      clear hT
      have huB2 := hu.trans huB
      go_wp2_with fail
      go_loopw [5] (fun i wr => ∃ q : Nat, q ≤ T.length ∧ i = .int .i64 q ∧ Hid (∀ i', (hi : i' < T.length) → i' < q → (U.one (l ++ T[i'])).2 ≠ p + l.length) ∧ Up wB wr) (fun i _ => T.length - (intOf i).toNat)
      case atStart => exact ⟨0, by omega, rfl, Lib.hid (fun i' _ h => by omega), Up.refl _⟩
      case round =>
        obtain ⟨q, hqT, rfl, hnq, huC⟩ := hrel
        generalize wr = wC at *
        by_cases hq : q < T.length
        · have hrowC := hrow.up huC
          obtain ⟨g, cap, Ai, ci, hv, hcap1, hcap2, hcell, hrd, _, hg⟩ := hrowC.get q hq
          injection hv with e1 e2 e3
          subst e1 e3
          have hgl := hrowC.lt g hg
          rw [hTl q hq] at hcell
          have hrA := h.up (huB2.trans huC)
          obtain ⟨A1, c1, wD, A2, c2, wE, q1, q2, hrE, hb1, hb2, huE, _⟩ := two_app wC.drew (hrA.up (Up.refl wC).drew) Hn.out (hrd.up (Up.refl wC).drew) (hTl q hq).symm (by omega)
          simp only [World.alloc_drew, heap_drew] at q1
          have Q1 := Lib.hid q1
          have Q2 := Lib.hid q2
          have HC := Lib.hid (fun w' (hu : Below wC.heap.size wC.drew w') => (Below.cell hu (p := ⟨g, q, none⟩) hgl).trans hcell)
          have hone := one_ref A2 c2 (n + p) (l ++ T[q]) wE hrE (by rw [List.length_append, ← Hn.out, hTl q hq])
          have HX := Lib.hid (fun (h : (U.one (l ++ T[q])).2 = p + n) => U.tails_opn Hnil.out hp1 (by rw [HT2.out]; exact HM.out q hq) (by rw [← Hn.out]; exact h))
          have HN2 := Lib.hid (fun (h : (U.one (l ++ T[q])).2 ≠ p + n) => show ∀ i', (hi : i' < T.length) → i' < q + 1 → (U.one (l ++ T[i'])).2 ≠ p + l.length from fun i' hi hlt2 => by
            by_cases hiq : i' = q
            · subst hiq; rw [← Hn.out]; exact h
            · exact hnq.out i' hi (by omega))
          have hB1 : Below wC.heap.size (wC.drew.alloc (.cells #[] 5)) wD := hb1
          have hB2 : Below wC.heap.size wD wE := hb2
          clear q1 q2 hcell hrd hrA hrE hb1 hb2 e2
          obtain ⟨x, hx⟩ : ∃ x, U.one (l ++ T[q]) = x := ⟨_, rfl⟩
          rw [hx] at hone HX HN2
          clear hx
          have hzE := huE.size
          by_cases hxk : x.2 = p + n
          · have hd := HX.out hxk
            have hdt : d = true := by rw [← HD.out]; simpa using hd
            subst hdt
            clear hd HX HN2
            have hxi : ((x.2 : Int) == (p : Int) + (n : Int)) = true := by simp; omega
            go_wp2_with fail
            refine wp_region_pir (R := Below wC.heap.size) [(1, false), (3, false), (4, false), (5, false), (6, false), (0, true), (2, true), (7, true), (8, true), (9, false), (10, false), (11, false), (12, false), (13, false)] (kept_below _) (by kernel_rfl) (by kernel_rfl) (fun _ _ d _ _ h => by cases d <;> exact h) ?_
            iterate 5 (((with_reducible apply pir_take); (focus exact rfl); (focus exact rfl); (focus (intro w' hu; have hcx := HC.out w' hu; go_simp; try with_reducible rfl; done))); (simp only [Act.put, List.setIfInBounds_toArray, List.set_cons_succ, List.set_cons_zero]))
            refine pir_make rfl rfl (fun K hK => ?_)
            go_simp
            refine hK.out _ _ (show Below wC.heap.size wC.drew (wC.drew.alloc (.cells #[] 5)) from Below.alloc (B := wC.heap.size) (Below.refl _ wC.drew) (Nat.le_refl wC.heap.size) _) ?_
            clear hK K
            refine pir_make rfl rfl (fun K hK => ?_)
            refine wp_app _ _ _ rfl rfl rfl Q1.out ?_
            refine hK.out _ _ hB1 ?_
            clear hK K
            simp only [Act.put, List.setIfInBounds_toArray, List.set_cons_succ, List.set_cons_zero]
            refine pir_make rfl rfl (fun K hK => ?_)
            refine wp_app _ _ _ rfl rfl rfl Q2.out ?_
            refine hK.out _ _ hB2 ?_
            clear hK K
            simp only [Act.put, List.setIfInBounds_toArray, List.set_cons_succ, List.set_cons_zero]
            refine pir_make rfl rfl (fun K hK => ?_)
            go_simp
            refine hone.mono ?_
            rintro e wF ⟨rfl, huF⟩
            refine hK.out _ _ (huF.mono hzE) ?_
            clear hK K
            iterate 5 (((with_reducible apply pir_take); (focus exact rfl); (focus exact rfl); (focus (intro w' hu; go_simp; try with_reducible rfl; done))); (simp only [Act.put, List.setIfInBounds_toArray, List.set_cons_succ, List.set_cons_zero]))
            refine pir_done ?_
            go_wp2_with fail
            go_ret
            exact ⟨rfl, (huB2.trans huC).trans (Up.of_drew (huE.trans huF))⟩
          · have hn2 := Lib.hid (HN2.out hxk)
            have hxi : ((x.2 : Int) == (p : Int) + (n : Int)) = false := by simp; omega
            clear HX HN2
            go_wp2_with fail
            refine wp_region_pir (R := Below wC.heap.size) [(1, false), (3, false), (4, false), (5, false), (6, false), (0, true), (2, true), (7, true), (8, true), (9, false), (10, false), (11, false), (12, false), (13, false)] (kept_below _) (by kernel_rfl) (by kernel_rfl) (fun _ _ d _ _ h => by cases d <;> exact h) ?_
            iterate 5 (((with_reducible apply pir_take); (focus exact rfl); (focus exact rfl); (focus (intro w' hu; have hcx := HC.out w' hu; go_simp; try with_reducible rfl; done))); (simp only [Act.put, List.setIfInBounds_toArray, List.set_cons_succ, List.set_cons_zero]))
            refine pir_make rfl rfl (fun K hK => ?_)
            go_simp
            refine hK.out _ _ (show Below wC.heap.size wC.drew (wC.drew.alloc (.cells #[] 5)) from Below.alloc (B := wC.heap.size) (Below.refl _ wC.drew) (Nat.le_refl wC.heap.size) _) ?_
            clear hK K
            refine pir_make rfl rfl (fun K hK => ?_)
            refine wp_app _ _ _ rfl rfl rfl Q1.out ?_
            refine hK.out _ _ hB1 ?_
            clear hK K
            simp only [Act.put, List.setIfInBounds_toArray, List.set_cons_succ, List.set_cons_zero]
            refine pir_make rfl rfl (fun K hK => ?_)
            refine wp_app _ _ _ rfl rfl rfl Q2.out ?_
            refine hK.out _ _ hB2 ?_
            clear hK K
            simp only [Act.put, List.setIfInBounds_toArray, List.set_cons_succ, List.set_cons_zero]
            refine pir_make rfl rfl (fun K hK => ?_)
            go_simp
            refine hone.mono ?_
            rintro e wF ⟨rfl, huF⟩
            refine hK.out _ _ (huF.mono hzE) ?_
            clear hK K
            iterate 5 (((with_reducible apply pir_take); (focus exact rfl); (focus exact rfl); (focus (intro w' hu; go_simp; try with_reducible rfl; done))); (simp only [Act.put, List.setIfInBounds_toArray, List.set_cons_succ, List.set_cons_zero]))
            refine pir_done ?_
            go_wp2_with fail
            go_roundw
            case rel => exact ⟨q + 1, by omega, by go_num, hn2, huC.trans (Up.of_drew (huE.trans huF))⟩
            case measure => simp [intOf]; omega
        · have hqT2 : q = T.length := by omega
          subst hqT2
          have hn2 : Hid (∀ p', 1 ≤ p' → p' < p + 1 → ∀ t ∈ U.tails p', (U.one (l ++ t)).2 ≠ p' + l.length) := Lib.hid (fun p' h1 h2 t ht => by
            by_cases hpp : p' = p
            · subst hpp
              rw [HT2.out] at ht
              obtain ⟨i, hi, rfl⟩ := HE.out t ht
              exact hnq.out i hi hi
            · exact hno.out p' h1 (by omega) t ht)
          go_wp2_with fail
          go_roundw
          case rel => exact ⟨p + 1, by omega, by omega, by go_num, hn2, huB2.trans huC⟩
          case measure => simp [intOf]; omega
    · have hdf : d = false := by
        rw [← HD.out]
        refine decide_eq_false fun ho => ?_
        obtain ⟨p', q1, q2, t, ht, hh⟩ := U.opn_tails ho
        exact hno.out p' q1 (by have := Hn.out; omega) t ht hh
      subst hdf
      go_wp2_with fail
      go_ret
      exact ⟨rfl, hu⟩

theorem ropen_ref (A : Option Addr) (c n : Nat) (l : List UInt8) (w : World) (h : Rd w A c (bs l)) (hn : n = l.length) :
    Calls Tryz.prog 21 #[.slice A n c] w fun e w' => e = .returned (.bool (decide (U.opn l))) ∧ Up w w' := by
  by_cases h1 : 1 ≤ n ∧ n ≤ 3 ∧ 0 ≤ U.fault l
  · exact ropen_yes A c n l w h (Lib.hid hn) h1.1 h1.2.1 h1.2.2
  · have e : decide (U.opn l) = false := decide_eq_false fun ho => by
      have h2 := U.opn_len ho
      have h3 := U.opn_one ho
      have h4 := U.faultAt_bad (l := l) (p := 0) (by omega) (by simpa using h3)
      have h5 : U.fault l = 0 := by unfold U.fault; rw [h4]; rfl
      exact h1 ⟨by omega, by omega, by omega⟩
    rw [e]
    exact ropen_no A c n l w h hn (by omega)

end Go.Proofs.YtipemmjbgegmfaaGreatDoor
