/- The statements of stage 9: three texts. -/
import Derived.Test.YthgjjlllifcegaaSue
namespace Go.Proofs.Ythgjjlllifcegaa
open Go.RowKit

theorem run_min_int4 {P : Program} (ts : Array TypeId) (t : TypeId) (k : IntKind) (x y z u : Int) (w : World) :
    (Builtin.min_ ts t #[.int k x, .int k y, .int k z, .int k u]).run P w = .ok (.int k (min (min (min x y) z) u)) w := by
  have h2 : ∀ a b : Int, (if b < a then b else a) = min a b := fun a b => by split <;> omega
  simp [Builtin.min_, Builtin.min2, Sem.run_pure, h2]

theorem xor3_len : ∀ (l m n : List UInt8), l.length = m.length → l.length = n.length → (xor3 l m n).length = l.length
  | [], [], [], _, _ => rfl
  | _ :: l, _ :: m, _ :: n, h1, h2 => by
    show (xor3 l m n).length + 1 = l.length + 1
    rw [xor3_len l m n (by simpa using h1) (by simpa using h2)]
  | [], _ :: _, _, h, _ => by simp at h
  | [], [], _ :: _, _, h => by simp at h
  | _ :: _, [], _, h, _ => by simp at h
  | _ :: _, _ :: _, [], _, h => by simp at h
theorem xor3_get : ∀ (l m n : List UInt8) (k : Nat) (h : k < l.length) (h1 : k < m.length) (h2 : k < n.length), (xor3 l m n)[k]? = some (l[k] ^^^ m[k] ^^^ n[k])
  | _ :: _, _ :: _, _ :: _, 0, _, _, _ => rfl
  | _ :: l, _ :: m, _ :: n, k + 1, h, h1, h2 => by
    show (xor3 l m n)[k]? = _
    exact xor3_get l m n k (by simpa using h) (by simpa using h1) (by simpa using h2)
  | [], _, _, _, h, _, _ => by simp at h
  | _ :: _, [], _, _, _, h, _ => by simp at h
  | _ :: _, _ :: _, [], _, _, _, h => by simp at h

theorem made_bytes (w : World) (q : Nat) (hq : q ≤ 1000) : ∃ w', (Instr.makeSlice 22 (.int .i64 (q : Int)) (.int .i64 (q : Int))).run Try.prog w = .ok (.slice (some ⟨w.heap.size, 0, none⟩) q q) w' ∧
    w'.ownsRow w.heap.size 5 1 (.slice (some ⟨w.heap.size, 0, none⟩) q q) q (bs (List.replicate q 0)) ∧ Up w w' := by
  obtain ⟨i, h1, h2, h3, h4⟩ := info_parts infoB
  obtain ⟨w', hrun, r1, r2⟩ := run_make_full (P := Try.prog) w w.heap.size 22 5 i (.int .u8 0) 1 uBe h1 h2 h3 .i64 .i64 q (by rw [h4]; omega) (by unfold maxLen; omega) (Nat.le_refl _)
  refine ⟨w', hrun, ?_, Up.grown (Up.refl w) r2 (fun k hk => by cases hk)⟩
  have e : (madeCells (Value.int .u8 0).cells (q * 1)).toList = bs (List.replicate q 0) := by
    rw [show (Value.int .u8 0).cells = #[Value.int .u8 0] from rfl, toList_madeCells_one, Nat.mul_one]
    unfold bs
    rw [List.map_replicate]
    rfl
  rwa [e] at r1

/-- One more of them is laid. -/
theorem lay_next (X : List UInt8) (q k : Nat) (h : k < X.length) (hq : X.length = q) : (X.take k ++ List.replicate (q - k) 0).set k X[k] = X.take (k + 1) ++ List.replicate (q - (k + 1)) 0 := by
  have e : List.replicate (q - k) (0 : UInt8) = 0 :: List.replicate (q - (k + 1)) 0 := by
    rw [show q - k = (q - (k + 1)) + 1 by omega]; rfl
  have hl : (X.take k).length = k := by rw [List.length_take]; omega
  rw [List.set_append_right _ _ (by omega), hl, Nat.sub_self, e, List.set_cons_zero, List.take_succ_eq_append_getElem h, List.append_assoc]
  rfl

set_option maxRecDepth 100000 in
theorem sum_linear_walk {rep : Nat → Nat} (H : SumOk rep) (w : World) (A : Option Addr) (n d : Nat) (la : List UInt8) (hla : la.length = n) (hra : Rd w A d (bs la)) (hda : d * 1 ≤ 140737488351232)
    (B : Option Addr) (m e : Nat) (lb : List UInt8) (hlb : lb.length = m) (hrb : Rd w B e (bs lb)) (hdb : e * 1 ≤ 140737488351232)
    (C : Option Addr) (p f : Nat) (lc : List UInt8) (hlc : lc.length = p) (hrc : Rd w C f (bs lc)) (hdc : f * 1 ≤ 140737488351232) :
    Calls Try.prog 7 #[.slice A n d, .slice B m e, .slice C p f] w fun e w' => e = .returned (.bool true) ∧ Up w w' := by
  have c4 := Lib.hid (fun w => awake_9 H w)
  obtain ⟨q, hq, hq1, hq2, hq3, hq4⟩ : ∃ q : Nat, min (min (min (n : Int) (m : Int)) (p : Int)) 200 = (q : Int) ∧ q ≤ n ∧ q ≤ m ∧ q ≤ p ∧ q ≤ 200 := ⟨min (min (min n m) p) 200, by omega, by omega, by omega, by omega, by omega⟩
  have hmin : ∀ w : World, (Builtin.min_ #[3, 3, 3, 3] 3 #[.int .i64 (n : Int), .int .i64 (m : Int), .int .i64 (p : Int), .int .i64 200]).run Try.prog w = .ok (.int .i64 (q : Int)) w := fun w => by rw [run_min_int4, hq]
  clear hq
  obtain ⟨A1, hslA, hrA⟩ := hra.head n q hla.symm hq1
  obtain ⟨B1, hslB, hrB⟩ := hrb.head m q hlb.symm hq2
  obtain ⟨C1, hslC, hrC⟩ := hrc.head p q hlc.symm hq3
  have ea : (la.take q).length = q := by rw [List.length_take]; omega
  have eb : (lb.take q).length = q := by rw [List.length_take]; omega
  have ec : (lc.take q).length = q := by rw [List.length_take]; omega
  have hX := xor3_len (la.take q) (lb.take q) (lc.take q) (by omega) (by omega)
  have hG : ∀ k (ha : k < la.length) (hb : k < lb.length) (hc : k < lc.length), k < q → (xor3 (la.take q) (lb.take q) (lc.take q))[k]? = some (la[k] ^^^ lb[k] ^^^ lc[k]) := fun k ha hb hc h => by
    have := xor3_get (la.take q) (lb.take q) (lc.take q) k (by omega) (by omega) (by omega)
    simpa using this
  have hs := crc_xor3 (la.take q) (lb.take q) (lc.take q) (by omega) (by omega)
  have o1 := Lib.hid (fun w' (u : Up w w') => H.of A1 q d (la.take q) w' (hrA.up u) ea.symm)
  have o2 := Lib.hid (fun w' (u : Up w w') => H.of B1 q e (lb.take q) w' (hrB.up u) eb.symm)
  have o3 := Lib.hid (fun w' (u : Up w w') => H.of C1 q f (lc.take q) w' (hrC.up u) ec.symm)
  have l1 := crcOf_lt (la.take q)
  have l2 := crcOf_lt (lb.take q)
  have l3 := crcOf_lt (lc.take q)
  have xs1 := bits_xor32 _ _ l1 l2
  have xs2 := bits_xor32 _ _ (xor_lt l1 l2) l3
  rw [hs] at xs2
  rw [ea] at hX
  generalize xor3 (la.take q) (lb.take q) (lc.take q) = X at *
  generalize crcOf (la.take q) = s1 at *
  generalize crcOf (lb.take q) = s2 at *
  generalize crcOf (lc.take q) = s3 at *
  generalize s1 ^^^ s2 = s12 at *
  have oX := Lib.hid (fun w' (hr : Rd w' (some ⟨w.heap.size, 0, none⟩) q (bs X)) => H.of (some ⟨w.heap.size, 0, none⟩) q q X w' hr hX.symm)
  generalize crcOf X = sX at *
  obtain ⟨w1, hmk, hown, hu1⟩ := made_bytes w q (by omega)
  have HO := Lib.hid hown
  have HA := Lib.hid hra
  have HB := Lib.hid hrb
  have HC := Lib.hid hrc
  have Hla := Lib.hid hla
  have Hlb := Lib.hid hlb
  have Hlc := Lib.hid hlc
  have HG := Lib.hid hG
  have HX := Lib.hid hX
  clear H hrA hrB hrC ea eb ec hs l1 l2 l3 hown hra hrb hrc hla hlb hlc hG hX
  go_enter Try.func7, Try.ntmps7
  go_wp2_with fail
  clear hmk hmin
  go_loopw [9] (fun i wr => ∃ k : Nat, k ≤ q ∧ i = .int .i64 (k : Int) ∧ Hid (wr.ownsRow w.heap.size 5 1 (.slice (some ⟨w.heap.size, 0, none⟩) q q) q (bs (X.take k ++ List.replicate (q - k) 0))) ∧ Up w wr) (fun i _ => q - (intOf i).toNat)
  case atStart => exact ⟨0, Nat.zero_le _, rfl, by rw [List.take_zero, List.nil_append, Nat.sub_zero]; exact HO, hu1⟩
  case round =>
    obtain ⟨k, hk, rfl, hown, hu⟩ := hrel
    clear HO hu1
    by_cases hlt : k < q
    · have hka : k < la.length := by have := Hla.out; omega
      have hkb : k < lb.length := by have := Hlb.out; omega
      have hkc : k < lc.length := by have := Hlc.out; omega
      have hkx : k < X.length := by have := HX.out; omega
      have hge := HG.out k hka hkb hkc hlt
      rw [List.getElem?_eq_getElem hkx] at hge
      have hge2 := Option.some.inj hge
      have hst := (hown.out.stored k (.int .u8 (X[k].toNat : Int))).1
      rw [bs_set, lay_next X q k hkx HX.out, hge2] at hst
      have HST := Lib.hid hst
      obtain ⟨a, rfl, _⟩ := HA.out.ad (by have := HA.out.fit; rw [bs_len] at this; omega)
      obtain ⟨b, rfl, _⟩ := HB.out.ad (by have := HB.out.fit; rw [bs_len] at this; omega)
      obtain ⟨c, rfl, _⟩ := HC.out.ad (by have := HC.out.fit; rw [bs_len] at this; omega)
      have hca : wr.cell? (a.add k) = some (.int .u8 (la[k].toNat : Int)) := (HA.out.up hu).cell a rfl k _ (bs_get la k hka)
      have hcb : wr.cell? (b.add k) = some (.int .u8 (lb[k].toNat : Int)) := (HB.out.up hu).cell b rfl k _ (bs_get lb k hkb)
      have hcc : wr.cell? (c.add k) = some (.int .u8 (lc[k].toNat : Int)) := (HC.out.up hu).cell c rfl k _ (bs_get lc k hkc)
      have hfr : wr.frozen? ⟨w.heap.size, k, none⟩ = false := hown.out.frozenAt k
      obtain ⟨vx, hcx⟩ : ∃ v, wr.cell? ⟨w.heap.size, k, none⟩ = some v := by
        have hk2 : k < (X.take k ++ List.replicate (q - k) 0).length := by rw [List.length_append, List.length_take, List.length_replicate]; omega
        exact ⟨_, (hown.out.cellAt k (by omega)).trans (bs_get _ k hk2)⟩
      have h1 := bits_xor8 la[k] lb[k]
      have h2 := bits_xor8 (la[k] ^^^ lb[k]) lc[k]
      have hka2 : k < n := by omega
      have hkb2 : k < m := by omega
      have hkc2 : k < p := by omega
      have HU := Lib.hid (fun z => Up.setCell hu (Nat.le_refl _) k z)
      clear hown hge2 hge hst o1 o2 o3 oX xs1 xs2 HG hkx hu
      generalize (la[k] ^^^ lb[k] ^^^ lc[k]).toNat = v2 at *
      generalize (la[k] ^^^ lb[k]).toNat = v1 at *
      generalize la[k].toNat = x1 at *
      generalize lb[k].toNat = x2 at *
      generalize lc[k].toNat = x3 at *
      clear hka hkb hkc
      go_wp2_with fail
      go_region
      go_wp2_with fail
      go_roundw
      case rel => exact ⟨k + 1, by omega, by go_num, Lib.hid (own_up HST.out ((Up.refl _).drew)), (HU.out _).drew⟩
      case measure => simp [intOf]; omega
    · obtain rfl : k = q := by omega
      have hr := own_read hown.out
      rw [Nat.sub_self, List.replicate_zero, List.append_nil, List.take_of_length_le (by rw [HX.out]; omega)] at hr
      have HR := Lib.hid hr
      clear hr hown HG HX
      go_wp2_with fail
      refine wp_region_pi [(0, false), (1, false), (2, false), (4, false), (5, false), (6, false), (9, false), (10, false), (11, false), (14, false), (3, true), (7, true), (8, false), (12, true), (13, false), (15, true), (16, false), (17, false), (18, true), (19, false), (20, false)] (by kernel_rfl) (by kernel_rfl) (fun _ _ d _ _ h => by cases d <;> exact h) ?_
      ((with_reducible apply pi_take); (focus exact rfl); (focus exact rfl); (focus (intro w' hu; go_simp; try with_reducible rfl; done)); dsimp only [Act.put]; simp only [List.setIfInBounds_toArray, List.set_cons_succ, List.set_cons_zero])
      ((with_reducible apply pi_take); (focus exact rfl); (focus exact rfl); (focus (intro w' hu; go_simp; try with_reducible rfl; done)); dsimp only [Act.put]; simp only [List.setIfInBounds_toArray, List.set_cons_succ, List.set_cons_zero])
      ((with_reducible apply pi_take); (focus exact rfl); (focus exact rfl); (focus (intro w' hu; go_simp; try with_reducible rfl; done)); dsimp only [Act.put]; simp only [List.setIfInBounds_toArray, List.set_cons_succ, List.set_cons_zero])
      ((with_reducible apply pi_take); (focus exact rfl); (focus exact rfl); (focus (intro w' hu; go_simp; try with_reducible rfl; done)); dsimp only [Act.put]; simp only [List.setIfInBounds_toArray, List.set_cons_succ, List.set_cons_zero])
      ((with_reducible apply pi_take); (focus exact rfl); (focus exact rfl); (focus (intro w' hu; go_simp; try with_reducible rfl; done)); dsimp only [Act.put]; simp only [List.setIfInBounds_toArray, List.set_cons_succ, List.set_cons_zero])
      ((with_reducible apply pi_take); (focus exact rfl); (focus exact rfl); (focus (intro w' hu; go_simp; try with_reducible rfl; done)); dsimp only [Act.put]; simp only [List.setIfInBounds_toArray, List.set_cons_succ, List.set_cons_zero])
      ((with_reducible apply pi_take); (focus exact rfl); (focus exact rfl); (focus (intro w' hu; go_simp; try with_reducible rfl; done)); dsimp only [Act.put]; simp only [List.setIfInBounds_toArray, List.set_cons_succ, List.set_cons_zero])
      ((with_reducible apply pi_take); (focus exact rfl); (focus exact rfl); (focus (intro w' hu; go_simp; try with_reducible rfl; done)); dsimp only [Act.put]; simp only [List.setIfInBounds_toArray, List.set_cons_succ, List.set_cons_zero])
      ((with_reducible apply pi_take); (focus exact rfl); (focus exact rfl); (focus (intro w' hu; go_simp; try with_reducible rfl; done)); dsimp only [Act.put]; simp only [List.setIfInBounds_toArray, List.set_cons_succ, List.set_cons_zero])
      ((with_reducible apply pi_take); (focus exact rfl); (focus exact rfl); (focus (intro w' hu; go_simp; try with_reducible rfl; done)); dsimp only [Act.put]; simp only [List.setIfInBounds_toArray, List.set_cons_succ, List.set_cons_zero])
      refine pi_make rfl rfl (fun K hK => ?_)
      go_simp
      refine (o1.out _ (hu.trans (Up.of_drew (Up.refl _)))).mono ?_
      rintro e v1 ⟨rfl, hx⟩
      refine hK.out _ _ hx ?_
      have hv1 : Up w v1 := hu.trans (Up.of_drew hx)
      have HR := Lib.hid (HR.out.up (Up.of_drew hx))
      clear hK K hx
      refine pi_make rfl rfl (fun K hK => ?_)
      go_simp
      refine (o2.out _ hv1).mono ?_
      rintro e v2 ⟨rfl, hx⟩
      refine hK.out _ _ hx ?_
      have hv2 : Up w v2 := hv1.trans hx
      have HR := Lib.hid (HR.out.up hx)
      clear hK K hx
      ((with_reducible apply pi_take); (focus exact rfl); (focus exact rfl); (focus (intro w' hu; go_simp; try with_reducible rfl; done)); dsimp only [Act.put]; simp only [List.setIfInBounds_toArray, List.set_cons_succ, List.set_cons_zero])
      refine pi_make rfl rfl (fun K hK => ?_)
      go_simp
      refine (o3.out _ hv2).mono ?_
      rintro e v3 ⟨rfl, hx⟩
      refine hK.out _ _ hx ?_
      have hv3 : Up w v3 := hv2.trans hx
      have HR := Lib.hid (HR.out.up hx)
      clear hK K hx
      ((with_reducible apply pi_take); (focus exact rfl); (focus exact rfl); (focus (intro w' hu; go_simp; try with_reducible rfl; done)); dsimp only [Act.put]; simp only [List.setIfInBounds_toArray, List.set_cons_succ, List.set_cons_zero])
      refine pi_make rfl rfl (fun K hK => ?_)
      go_simp
      refine (oX.out _ HR.out).mono ?_
      rintro e v4 ⟨rfl, hx⟩
      refine hK.out _ _ hx ?_
      have hv4 : Up w v4 := hv3.trans hx
      have HR := Lib.hid (HR.out.up hx)
      clear hK K hx
      ((with_reducible apply pi_take); (focus exact rfl); (focus exact rfl); (focus (intro w' hu; go_simp; try with_reducible rfl; done)); dsimp only [Act.put]; simp only [List.setIfInBounds_toArray, List.set_cons_succ, List.set_cons_zero])
      ((with_reducible apply pi_take); (focus exact rfl); (focus exact rfl); (focus (intro w' hu; go_simp; try with_reducible rfl; done)); dsimp only [Act.put]; simp only [List.setIfInBounds_toArray, List.set_cons_succ, List.set_cons_zero])
      refine pi_make rfl rfl (fun K hK => ?_)
      go_simp
      refine (c4.out _).mono ?_
      rintro e v5 ⟨rfl, hx⟩
      refine hK.out _ _ hx ?_
      have hv5 : Up w v5 := hv4.trans hx
      have HR := Lib.hid (HR.out.up hx)
      clear hK K hx
      ((with_reducible apply pi_take); (focus exact rfl); (focus exact rfl); (focus (intro w' hu; go_simp; try with_reducible rfl; done)); dsimp only [Act.put]; simp only [List.setIfInBounds_toArray, List.set_cons_succ, List.set_cons_zero])
      ((with_reducible apply pi_take); (focus exact rfl); (focus exact rfl); (focus (intro w' hu; go_simp; try with_reducible rfl; done)); dsimp only [Act.put]; simp only [List.setIfInBounds_toArray, List.set_cons_succ, List.set_cons_zero])
      refine pi_done ?_
      go_wp2_with fail
      go_ret
      exact ⟨rfl, hv5⟩

end Go.Proofs.Ythgjjlllifcegaa
