/- The statements of stage 10: the whole. -/
import Derived.Test.YtipemmjbgegmfaaDoorStr
namespace Go.Proofs.YtipemmjbgegmfaaDoor
open Go.RowKit Go.Proofs.YtipemmjbgegmfaaDoor.Ordr Go.Proofs.YtipemmjbgegmfaaDoor.Cmpr

set_option maxRecDepth 100000 in
set_option maxHeartbeats 3200000 in
theorem whole_of10 {G : World → Prop} {Rep : (Nat → Prop) → World → Nat → SS → Prop} (hG : Ground G) (H : StreamOk G Rep) (HT : TextOk G) (HS : SumOfOk G) (W : World) (hw : G W) (O : Option Addr) (len cap : Nat) (LL : List (List UInt8)) (hlen : LL.length = len) (hlc : len ≤ cap) (hcm : cap ≤ 9223372036854775807) (hin : RowsIn W O LL) :
    Calls Tryd.prog 9 #[.slice O len cap] W fun e w' => e = .returned (.bool true) ∧ Up W w' := by
  have AW := Lib.hid (fun w' (u : Up W w') => awake_10 hG H w' (hG _ _ hw u))
  have cf := few_walk W O len cap LL hlen hlc hcm hin
  cases hfew : fewB LL with
  | false =>
    rw [hfew] at cf
    have CF := Lib.hid cf
    clear cf hfew H hin HT HS
    go_enter Tryd.func9, Tryd.ntmps9
    go_wp2_with fail
    refine CF.out.mono ?_
    rintro e w1 ⟨rfl, rfl⟩
    go_wp2_with fail
    refine (AW.out _ (Up.refl _)).mono ?_
    rintro e w2 ⟨rfl, hu⟩
    go_wp2_with fail
    go_ret
    exact ⟨rfl, hu⟩
  | true =>
    rw [hfew] at cf
    have CF := Lib.hid cf
    obtain ⟨hl60, hfl⟩ := few_yes hfew
    have HFL := Lib.hid hfl
    have HLN := Lib.hid hlen
    have HWR := Lib.hid (fun X w' g s T k (hk : k < LL.length) A c (u : Up W w') (hX : ∀ b, X b → W.heap.size ≤ b) (hR : Rep X w' g s) (hq : s.Ok T) (hT : T + LL[k].length ≤ 600) (hr : Rd W A c (bs LL[k])) =>
      H.write X w' g s T A LL[k].length c LL[k] (hG _ _ hw u) hR hq (by omega) (hr.up u) rfl (rd_apart hr hX))
    have HE := Lib.hid (fun X w' g s T (u : Up W w') (hR : Rep X w' g s) (hq : s.Ok T) (hT : T ≤ 600) => H.fin X w' g s T (hG _ _ hw u) hR hq (by omega))
    have HH := Lib.hid (fun X w1 w2 g s (hR : Rep X w1 g s) (u : Up w1 w2) => H.held X w2 g s (H.up hR u))
    have HM := Lib.hid (fun X w1 g s (hR : Rep X w1 g s) => H.mark X w1 g s hR)
    have HU := Lib.hid (fun X w1 w2 g s (hR : Rep X w1 g s) (u : Up w1 w2) => H.up hR u)
    have HSY := Lib.hid (fun X Y w1 w2 g s (hR : Rep X w1 g s) (hf : Fx Y w1 w2) (ho : ∀ b, X b → ¬ Y b) => H.stay X Y w1 w2 g s hR hf ho)
    have HLT := Lib.hid (fun X w1 g s (hR : Rep X w1 g s) => H.lt X w1 g s hR)
    have HN := Lib.hid (H.new W hw)
    have TX := Lib.hid (fun A n d l w' (u : Up W w') (hr : Rd w' A d (bs l)) (hn : n = l.length) (hm : n ≤ 4000) => HT A n d l w' (hG _ _ hw u) hr hn hm)
    have SM := Lib.hid (fun A n d l w' (u : Up W w') (hr : Rd w' A d (bs l)) (hn : n = l.length) => HS A n d l w' (hG _ _ hw u) hr hn)
    rw [hlen] at hl60
    clear cf hfew hfl hlen H HT HS
    go_enter Tryd.func9, Tryd.ntmps9
    go_wp2_with fail
    refine CF.out.mono ?_
    rintro e w1 ⟨rfl, rfl⟩
    go_wp2_with fail
    refine HN.out.mono ?_
    rintro e w1 ⟨X1, g, rfl, hR1, hu1, hX1⟩
    have HR1 := Lib.hid hR1
    have HX1 := Lib.hid hX1
    clear hR1 hX1 HN CF
    go_wp2_with fail
    go_loopw [4, 5, 6, 7] (fun al ou ba i wr => ∃ (k : Nat) (s : SS) (A1 A2 : Option Addr) (n1 c1 n2 c2 : Nat), k ≤ len ∧ i = .int .i64 (k : Int) ∧ al = .slice A1 n1 c1 ∧ ou = .slice A2 n2 c2 ∧ ba = .int .i64 (s.err : Int) ∧ n1 ≤ 600 ∧ n2 ≤ 20000 ∧ (s.err = 0 ∨ s.err = 6) ∧ Hid (∃ (T U r : List UInt8) (cs : List Nat) (X : Nat → Prop), T = (LL.take k).flatten ∧ Went SS.new T U cs r s ∧ s.Ok n1 ∧ Rep X wr g s ∧ (∀ b, X b → W.heap.size ≤ b) ∧ Two W X wr (.slice A1 n1 c1) n1 T (.slice A2 n2 c2) n2 U) ∧ Up W wr) (fun _ _ _ i _ => len - (intOf i).toNat)
    case atStart => exact ⟨0, SS.new, none, none, 0, 0, 0, 0, Nat.zero_le _, rfl, rfl, rfl, rfl, Nat.zero_le _, Nat.zero_le _, .inl rfl, Lib.hid ⟨[], [], [], [], X1, rfl, Went.new _ rfl rfl, SS.new_ok, HR1.out, HX1.out, Two.new _ _ _⟩, hu1⟩
    case round =>
      obtain ⟨k, s, A1, A2, n1, c1, n2, c2, hk, rfl, rfl, rfl, rfl, hn1, hn2, hs06, HI, hu⟩ := hrel
      clear HR1 HX1 hu1
      by_cases hlt : k < len
      · obtain ⟨T, U, r, cs, X, hT, hwe, hok, hR, hX, h2⟩ := HI.out
        have hkl : k < LL.length := by rw [HLN.out]; exact hlt
        obtain ⟨a, A, c, rfl, hab, hcell0, hrd⟩ := hin k hkl
        have hcell : wr.cell? (a.add k) = some (.slice A LL[k].length c) := (Below.cell hu (p := a.add k) (by rw [addr_block]; exact hab)).trans hcell0
        have hfl := flat_le LL k hkl
        have hfs := flat_succ LL k hkl
        have hT2 : n1 + LL[k].length ≤ 600 := by have := HFL.out; have := h2.len1; rw [hT] at this; omega
        obtain ⟨B1, d1, w2, hap, h22, hu2, Y, hfY, hoY⟩ := h2.push hu (HLT.out X wr g s hR) (hrd.up hu) rfl (by omega)
        have hR2 := HSY.out X Y wr w2 g s hR hfY hoY
        have cw := HWR.out X w2 g s n1 k hkl A c hu2 hX hR2 hok hT2 hrd
        have hcell2 : w2.cell? (a.add k) = some (.slice A LL[k].length c) := (Below.cell hu2 (p := a.add k) (by rw [addr_block]; exact hab)).trans hcell0
        have HT2 := Lib.hid (show T ++ LL[k] = (LL.take (k + 1)).flatten by rw [hfs, hT])
        have hok2 := hok.write LL[k]
        have HWE := Lib.hid (hwe.write LL[k])
        have hto : n2 + (s.told LL[k]).length ≤ 20000 := by
          obtain ⟨cs', r', h9⟩ := hwe.write LL[k]
          have h8 := h9.mout
          have h7 := hok2.out
          rw [List.length_append, ← h2.len2] at h8
          have h6 : (s.write LL[k]).out = 0 + (n2 + (s.told LL[k]).length) := h8
          have h5 := txt_told_len hwe hok LL[k]
          rw [List.length_append, List.length_append, ← h2.len1, ← h2.len2] at h5
          omega
        have h06 := hok2.err
        have h66 := Lib.hid (fun h : s.err = 6 => write_six h LL[k])
        have HA := Lib.hid hap
        have CW := Lib.hid cw
        have HOK2 := Lib.hid hok2
        have H22 := Lib.hid h22
        have HX := Lib.hid hX
        clear hap cw hok2 hwe hok hR hR2 hrd hfl hfs hcell0 HI h2 h22 hfY hoY hT hX
        generalize s.write LL[k] = s2 at *
        generalize s.told LL[k] = tl at *
        generalize hm : LL[k].length = m at *
        have Hm := Lib.hid hm
        clear hm
        go_wp2_with (at_builtin; refine wpList_app rfl _ _ _ rfl rfl rfl HA.out ?_)
        clear HA hcell
        refine CW.out.mono ?_
        intro e w3 hp
        obtain ⟨X3, B3, b3, rfl, hO3, hf3, hR3, hx3, hk3, hu3, hX3⟩ := hp.out hu2 HX.out
        have h23 := (H22.out.call hx3 hk3).swap
        obtain ⟨B4, d4, w4, hap, h24, hu4, Y, hfY, hoY⟩ := h23.push hu3 (HLT.out X3 w3 g s2 hR3) (own_read hO3) rfl (by omega)
        have hR4 := HSY.out X3 Y w3 w4 g s2 hR3 hfY hoY
        have HR4 := Lib.hid hR4
        have H24 := Lib.hid h24.swap
        have HX3 := Lib.hid hX3
        have HA := Lib.hid hap
        clear hp hO3 hf3 hx3 hk3 hap hR4 hR3 h23 h24 hfY hoY H22 CW hcell2 hX3
        generalize tl.length = q at *
        rcases hs06 with he | he
        · have he2 := he
          rw [he2] at *
          clear he2
          have HE0 := Lib.hid he
          clear he
          go_wp2_with (at_builtin; refine wpList_app rfl _ _ _ rfl rfl rfl HA.out ?_)
          go_roundw
          case rel =>
            obtain ⟨cs', r', h9⟩ := HWE.out
            exact ⟨k + 1, s2, B1, B4, n1 + m, d1, n2 + q, d4, by omega, by go_num, rfl, rfl, rfl, by omega, by omega, h06, Lib.hid ⟨_, _, r', cs', X3, HT2.out, h9, HOK2.out, HR4.out, HX3.out, H24.out⟩, hu4⟩
          case measure => simp [intOf]; omega
        · have HE2 := Lib.hid (h66.out he)
          rw [he] at *
          go_wp2_with (at_builtin; refine wpList_app rfl _ _ _ rfl rfl rfl HA.out ?_)
          go_roundw
          case rel =>
            obtain ⟨cs', r', h9⟩ := HWE.out
            exact ⟨k + 1, s2, B1, B4, n1 + m, d1, n2 + q, d4, by omega, by go_num, rfl, rfl, by rw [HE2.out]; rfl, by omega, by omega, h06, Lib.hid ⟨_, _, r', cs', X3, HT2.out, h9, HOK2.out, HR4.out, HX3.out, H24.out⟩, hu4⟩
          case measure => simp [intOf]; omega
      · obtain ⟨T, V, r, cs, X, hT, hwe, hok, hR, hX, h2⟩ := HI.out
        have ce := HE.out X wr g s n1 hu hR hok hn1
        have hv := whole_vals hwe
        have hok2 := hok.fin
        have hU16 : n2 + s.last.length ≤ 20000 := by
          rw [h2.len2]
          have h1 := last_len hwe
          rw [List.length_append, ← h2.len1] at h1
          omega
        have CE := Lib.hid ce
        have H2 := Lib.hid h2
        have HX := Lib.hid hX
        have HL1 := Lib.hid h2.len1
        have H66 := Lib.hid (fun h : s.err = 6 => fin_six h)
        clear ce hwe hok hR hT h2 hX HI hin
        generalize s.last = tl at *
        generalize s.fin = s2 at *
        rcases hv with ⟨l, hl, rfl, he, he2, ho, hag⟩ | ⟨hf, he2, hhe, htl, hou, hso⟩
        -- it is right
        · have HE2 := Lib.hid he2
          have HO := Lib.hid ho
          have HL := Lib.hid hl
          have HAG := Lib.hid (show aggM s2 = .agg #[.int .i64 (n1 : Int), .int .i64 ((n2 + tl.length : Nat) : Int), .int .u32 (crcOf (U.encs l) : Int), .int .u32 (crcOf (U.encs (nfcL l)) : Int)] by rw [hag, ho, ← H2.out.len1, ← ho, List.length_append, ← H2.out.len2])
          rw [he]
          clear ho hl hag he he2 H66 hok2
          go_wp2_with fail
          refine CE.out.mono ?_
          intro e w3 hp
          obtain ⟨X3, B3, b3, rfl, hO3, hf3, hR3, hx3, hk3, hu3, hX3⟩ := hp.out hu HX.out
          rw [HE2.out]
          have h23 := (H2.out.call hx3 hk3).swap
          obtain ⟨B4, d4, w4, hap, h24, hu4, Y, hfY, hoY⟩ := h23.push hu3 (HLT.out X3 w3 g s2 hR3) (own_read hO3) rfl (by omega)
          rw [HO.out] at h24
          have hR4 := HSY.out X3 Y w3 w4 g s2 hR3 hfY hoY
          have c5 := TX.out A1 n1 c1 (U.encs l) w4 hu4 (own_read h24.two) HL1.out (by omega)
          have HR4 := Lib.hid hR4
          have H24 := Lib.hid h24
          have HA := Lib.hid hap
          have C5 := Lib.hid c5
          clear hp hO3 hf3 hx3 hk3 hap hR4 hR3 h23 h24 hfY hoY H2 CE hX3 HX c5
          generalize tl.length = q at *
          go_wp2_with (at_builtin; refine wpList_app rfl _ _ _ rfl rfl rfl HA.out ?_)
          clear HA
          refine C5.out.mono ?_
          intro e w5 hp
          obtain ⟨hu5, B5, b5, rfl, hr5⟩ := hp.yes HL.out
          have HR5 := Lib.hid hr5
          clear hp hr5 C5
          go_wp2_with fail
          refine (HM.out X3 w5 g s2 (HU.out X3 w4 w5 g s2 HR4.out hu5)).mono ?_
          rintro e w6 ⟨rfl, hu6⟩
          rw [HAG.out]
          go_wp2_with fail
          have hob : (w6.alloc (.cells #[.int .i64 (n1 : Int), .int .i64 ((n2 + q : Nat) : Int), .int .u32 (crcOf (U.encs l) : Int), .int .u32 (crcOf (U.encs (nfcL l)) : Int)] 44)).heap[w6.heap.size]? = some (.cells #[.int .i64 (n1 : Int), .int .i64 ((n2 + q : Nat) : Int), .int .u32 (crcOf (U.encs l) : Int), .int .u32 (crcOf (U.encs (nfcL l)) : Int)] 44 (0, 0)) := heap_alloc_new w6 _
          have hu7 : Up w6 (w6.alloc (.cells #[.int .i64 (n1 : Int), .int .i64 ((n2 + q : Nat) : Int), .int .u32 (crcOf (U.encs l) : Int), .int .u32 (crcOf (U.encs (nfcL l)) : Int)] 44)) := (Up.refl w6).alloc _
          have HLEN := Lib.hid (show n2 + q = (U.encs (nfcL l)).length from H24.out.len1)
          simp only [Int.natCast_add] at hob hu7
          generalize w6.alloc (.cells #[.int .i64 (n1 : Int), .int .i64 ((n2 : Int) + (q : Int)), .int .u32 (crcOf (U.encs l) : Int), .int .u32 (crcOf (U.encs (nfcL l)) : Int)] 44) = w7 at *
          have hu47 := (hu5.trans hu6).trans hu7
          have SA := Lib.hid (fun w' (u : Up w7 w') => Rd.str (n := n2 + q) ((own_read H24.out.one).up (hu47.trans u)) HLEN.out)
          have SB := Lib.hid (fun w' (u : Up w7 w') => Rd.str (n := (U.encs (nfcL l)).length) (HR5.out.up ((hu6.trans hu7).trans u)) rfl)
          have L0 := Lib.hid (fun w' (u : Up w7 w') => obj_cell (obj_up hob u) 0)
          have L1 := Lib.hid (fun w' (u : Up w7 w') => obj_cell (obj_up hob u) 1)
          have L2 := Lib.hid (fun w' (u : Up w7 w') => obj_cell (obj_up hob u) 2)
          have L3 := Lib.hid (fun w' (u : Up w7 w') => obj_cell (obj_up hob u) 3)
          simp only [List.getElem?_toArray, List.getElem?_cons_zero, List.getElem?_cons_succ] at L0 L1 L2 L3
          have S1 := Lib.hid (fun w' (u : Up w7 w') => SM.out A1 n1 c1 (U.encs l) w' (hu4.trans (hu47.trans u)) ((own_read H24.out.two).up (hu47.trans u)) HL1.out)
          have S2 := Lib.hid (fun w' (u : Up w7 w') => SM.out B4 (n2 + q) d4 (U.encs (nfcL l)) w' (hu4.trans (hu47.trans u)) ((own_read H24.out.one).up (hu47.trans u)) HLEN.out)
          have HU7 := Lib.hid (hu4.trans hu47)
          clear hob HR5 H24 HLEN hu5 hu6 hu7 hu47 hu4
          generalize w6.heap.size = mb at *
          generalize (U.encs (nfcL l)).length = dl at *
          generalize U.encs (nfcL l) = D at *
          generalize crcOf D = co at *
          generalize crcOf (U.encs l) = ca at *
          refine wp_region_pi [(0, false), (1, false), (2, false), (3, false), (4, false), (5, false), (6, false), (7, false), (8, false), (9, false), (10, false), (11, false), (12, false), (13, false), (14, false), (15, false), (17, false), (16, true), (18, true), (19, false), (20, false), (21, false), (22, false), (23, true), (24, false), (25, false)] (by kernel_rfl) (by kernel_rfl) (fun _ _ d _ _ h => by cases d <;> exact h) ?_
          ((with_reducible apply pi_take); (focus exact rfl); (focus exact rfl); (focus (intro w' u1; have sa := SA.out w' (Up.of_drew u1); have sb := SB.out w' (Up.of_drew u1); have l0 := L0.out w' (Up.of_drew u1); have l1 := L1.out w' (Up.of_drew u1); have l2 := L2.out w' (Up.of_drew u1); have l3 := L3.out w' (Up.of_drew u1); go_simp; try with_reducible rfl; done)); (try dsimp only [Act.put]); (try simp only [List.setIfInBounds_toArray, List.set_cons_succ, List.set_cons_zero]))
          ((with_reducible apply pi_take); (focus exact rfl); (focus exact rfl); (focus (intro w' u1; have sa := SA.out w' (Up.of_drew u1); have sb := SB.out w' (Up.of_drew u1); have l0 := L0.out w' (Up.of_drew u1); have l1 := L1.out w' (Up.of_drew u1); have l2 := L2.out w' (Up.of_drew u1); have l3 := L3.out w' (Up.of_drew u1); go_simp; try with_reducible rfl; done)); (try dsimp only [Act.put]); (try simp only [List.setIfInBounds_toArray, List.set_cons_succ, List.set_cons_zero]))
          ((with_reducible apply pi_take); (focus exact rfl); (focus exact rfl); (focus (intro w' u1; have sa := SA.out w' (Up.of_drew u1); have sb := SB.out w' (Up.of_drew u1); have l0 := L0.out w' (Up.of_drew u1); have l1 := L1.out w' (Up.of_drew u1); have l2 := L2.out w' (Up.of_drew u1); have l3 := L3.out w' (Up.of_drew u1); go_simp; try with_reducible rfl; done)); (try dsimp only [Act.put]); (try simp only [List.setIfInBounds_toArray, List.set_cons_succ, List.set_cons_zero]))
          ((with_reducible apply pi_take); (focus exact rfl); (focus exact rfl); (focus (intro w' u1; have sa := SA.out w' (Up.of_drew u1); have sb := SB.out w' (Up.of_drew u1); have l0 := L0.out w' (Up.of_drew u1); have l1 := L1.out w' (Up.of_drew u1); have l2 := L2.out w' (Up.of_drew u1); have l3 := L3.out w' (Up.of_drew u1); go_simp; try with_reducible rfl; done)); (try dsimp only [Act.put]); (try simp only [List.setIfInBounds_toArray, List.set_cons_succ, List.set_cons_zero]))
          ((with_reducible apply pi_take); (focus exact rfl); (focus exact rfl); (focus (intro w' u1; have sa := SA.out w' (Up.of_drew u1); have sb := SB.out w' (Up.of_drew u1); have l0 := L0.out w' (Up.of_drew u1); have l1 := L1.out w' (Up.of_drew u1); have l2 := L2.out w' (Up.of_drew u1); have l3 := L3.out w' (Up.of_drew u1); go_simp; try with_reducible rfl; done)); (try dsimp only [Act.put]); (try simp only [List.setIfInBounds_toArray, List.set_cons_succ, List.set_cons_zero]))
          ((with_reducible apply pi_take); (focus exact rfl); (focus exact rfl); (focus (intro w' u1; have sa := SA.out w' (Up.of_drew u1); have sb := SB.out w' (Up.of_drew u1); have l0 := L0.out w' (Up.of_drew u1); have l1 := L1.out w' (Up.of_drew u1); have l2 := L2.out w' (Up.of_drew u1); have l3 := L3.out w' (Up.of_drew u1); go_simp; try with_reducible rfl; done)); (try dsimp only [Act.put]); (try simp only [List.setIfInBounds_toArray, List.set_cons_succ, List.set_cons_zero]))
          ((with_reducible apply pi_take); (focus exact rfl); (focus exact rfl); (focus (intro w' u1; have sa := SA.out w' (Up.of_drew u1); have sb := SB.out w' (Up.of_drew u1); have l0 := L0.out w' (Up.of_drew u1); have l1 := L1.out w' (Up.of_drew u1); have l2 := L2.out w' (Up.of_drew u1); have l3 := L3.out w' (Up.of_drew u1); go_simp; try with_reducible rfl; done)); (try dsimp only [Act.put]); (try simp only [List.setIfInBounds_toArray, List.set_cons_succ, List.set_cons_zero]))
          ((with_reducible apply pi_take); (focus exact rfl); (focus exact rfl); (focus (intro w' u1; have sa := SA.out w' (Up.of_drew u1); have sb := SB.out w' (Up.of_drew u1); have l0 := L0.out w' (Up.of_drew u1); have l1 := L1.out w' (Up.of_drew u1); have l2 := L2.out w' (Up.of_drew u1); have l3 := L3.out w' (Up.of_drew u1); go_simp; try with_reducible rfl; done)); (try dsimp only [Act.put]); (try simp only [List.setIfInBounds_toArray, List.set_cons_succ, List.set_cons_zero]))
          ((with_reducible apply pi_take); (focus exact rfl); (focus exact rfl); (focus (intro w' u1; have sa := SA.out w' (Up.of_drew u1); have sb := SB.out w' (Up.of_drew u1); have l0 := L0.out w' (Up.of_drew u1); have l1 := L1.out w' (Up.of_drew u1); have l2 := L2.out w' (Up.of_drew u1); have l3 := L3.out w' (Up.of_drew u1); go_simp; try with_reducible rfl; done)); (try dsimp only [Act.put]); (try simp only [List.setIfInBounds_toArray, List.set_cons_succ, List.set_cons_zero]))
          ((with_reducible apply pi_take); (focus exact rfl); (focus exact rfl); (focus (intro w' u1; have sa := SA.out w' (Up.of_drew u1); have sb := SB.out w' (Up.of_drew u1); have l0 := L0.out w' (Up.of_drew u1); have l1 := L1.out w' (Up.of_drew u1); have l2 := L2.out w' (Up.of_drew u1); have l3 := L3.out w' (Up.of_drew u1); go_simp; try with_reducible rfl; done)); (try dsimp only [Act.put]); (try simp only [List.setIfInBounds_toArray, List.set_cons_succ, List.set_cons_zero]))
          ((with_reducible apply pi_take); (focus exact rfl); (focus exact rfl); (focus (intro w' u1; have sa := SA.out w' (Up.of_drew u1); have sb := SB.out w' (Up.of_drew u1); have l0 := L0.out w' (Up.of_drew u1); have l1 := L1.out w' (Up.of_drew u1); have l2 := L2.out w' (Up.of_drew u1); have l3 := L3.out w' (Up.of_drew u1); go_simp; try with_reducible rfl; done)); (try dsimp only [Act.put]); (try simp only [List.setIfInBounds_toArray, List.set_cons_succ, List.set_cons_zero]))
          ((with_reducible apply pi_take); (focus exact rfl); (focus exact rfl); (focus (intro w' u1; have sa := SA.out w' (Up.of_drew u1); have sb := SB.out w' (Up.of_drew u1); have l0 := L0.out w' (Up.of_drew u1); have l1 := L1.out w' (Up.of_drew u1); have l2 := L2.out w' (Up.of_drew u1); have l3 := L3.out w' (Up.of_drew u1); go_simp; try with_reducible rfl; done)); (try dsimp only [Act.put]); (try simp only [List.setIfInBounds_toArray, List.set_cons_succ, List.set_cons_zero]))
          ((with_reducible apply pi_take); (focus exact rfl); (focus exact rfl); (focus (intro w' u1; have sa := SA.out w' (Up.of_drew u1); have sb := SB.out w' (Up.of_drew u1); have l0 := L0.out w' (Up.of_drew u1); have l1 := L1.out w' (Up.of_drew u1); have l2 := L2.out w' (Up.of_drew u1); have l3 := L3.out w' (Up.of_drew u1); go_simp; try with_reducible rfl; done)); (try dsimp only [Act.put]); (try simp only [List.setIfInBounds_toArray, List.set_cons_succ, List.set_cons_zero]))
          ((with_reducible apply pi_take); (focus exact rfl); (focus exact rfl); (focus (intro w' u1; have sa := SA.out w' (Up.of_drew u1); have sb := SB.out w' (Up.of_drew u1); have l0 := L0.out w' (Up.of_drew u1); have l1 := L1.out w' (Up.of_drew u1); have l2 := L2.out w' (Up.of_drew u1); have l3 := L3.out w' (Up.of_drew u1); go_simp; try with_reducible rfl; done)); (try dsimp only [Act.put]); (try simp only [List.setIfInBounds_toArray, List.set_cons_succ, List.set_cons_zero]))
          ((with_reducible apply pi_take); (focus exact rfl); (focus exact rfl); (focus (intro w' u1; have sa := SA.out w' (Up.of_drew u1); have sb := SB.out w' (Up.of_drew u1); have l0 := L0.out w' (Up.of_drew u1); have l1 := L1.out w' (Up.of_drew u1); have l2 := L2.out w' (Up.of_drew u1); have l3 := L3.out w' (Up.of_drew u1); go_simp; try with_reducible rfl; done)); (try dsimp only [Act.put]); (try simp only [List.setIfInBounds_toArray, List.set_cons_succ, List.set_cons_zero]))
          ((with_reducible apply pi_take); (focus exact rfl); (focus exact rfl); (focus (intro w' u1; have sa := SA.out w' (Up.of_drew u1); have sb := SB.out w' (Up.of_drew u1); have l0 := L0.out w' (Up.of_drew u1); have l1 := L1.out w' (Up.of_drew u1); have l2 := L2.out w' (Up.of_drew u1); have l3 := L3.out w' (Up.of_drew u1); go_simp; try with_reducible rfl; done)); (try dsimp only [Act.put]); (try simp only [List.setIfInBounds_toArray, List.set_cons_succ, List.set_cons_zero]))
          ((with_reducible apply pi_take); (focus exact rfl); (focus exact rfl); (focus (intro w' u1; have sa := SA.out w' (Up.of_drew u1); have sb := SB.out w' (Up.of_drew u1); have l0 := L0.out w' (Up.of_drew u1); have l1 := L1.out w' (Up.of_drew u1); have l2 := L2.out w' (Up.of_drew u1); have l3 := L3.out w' (Up.of_drew u1); go_simp; try with_reducible rfl; done)); (try dsimp only [Act.put]); (try simp only [List.setIfInBounds_toArray, List.set_cons_succ, List.set_cons_zero]))
          refine pi_make rfl rfl (fun K hK => ?_)
          go_simp
          refine (S1.out _ (Up.of_drew (Up.refl _))).mono ?_
          rintro e w8 ⟨rfl, hy⟩
          refine hK.out _ _ hy ?_
          have hu8 := Up.of_drew hy
          clear hK K hy
          refine pi_make rfl rfl (fun K hK => ?_)
          go_simp
          refine (S2.out _ hu8).mono ?_
          rintro e w9 ⟨rfl, hy⟩
          refine hK.out _ _ hy ?_
          have hu9 := hu8.trans hy
          clear hK K hy
          ((with_reducible apply pi_take); (focus exact rfl); (focus exact rfl); (focus (intro w' u1; have me := mark_eq; go_simp; try with_reducible rfl; done)); (try dsimp only [Act.put]); (try simp only [List.setIfInBounds_toArray, List.set_cons_succ, List.set_cons_zero]))
          ((with_reducible apply pi_take); (focus exact rfl); (focus exact rfl); (focus (intro w' u1; have me := mark_eq; go_simp; try with_reducible rfl; done)); (try dsimp only [Act.put]); (try simp only [List.setIfInBounds_toArray, List.set_cons_succ, List.set_cons_zero]))
          ((with_reducible apply pi_take); (focus exact rfl); (focus exact rfl); (focus (intro w' u1; have me := mark_eq; go_simp; try with_reducible rfl; done)); (try dsimp only [Act.put]); (try simp only [List.setIfInBounds_toArray, List.set_cons_succ, List.set_cons_zero]))
          ((with_reducible apply pi_take); (focus exact rfl); (focus exact rfl); (focus (intro w' u1; have me := mark_eq; go_simp; try with_reducible rfl; done)); (try dsimp only [Act.put]); (try simp only [List.setIfInBounds_toArray, List.set_cons_succ, List.set_cons_zero]))
          refine pi_make rfl rfl (fun K hK => ?_)
          go_simp
          refine (AW.out _ (HU7.out.trans hu9)).mono ?_
          rintro e wa ⟨rfl, hy⟩
          refine hK.out _ _ hy ?_
          clear hK K
          ((with_reducible apply pi_take); (focus exact rfl); (focus exact rfl); (focus (intro w' u1;  go_simp; try with_reducible rfl; done)); (try dsimp only [Act.put]); (try simp only [List.setIfInBounds_toArray, List.set_cons_succ, List.set_cons_zero]))
          ((with_reducible apply pi_take); (focus exact rfl); (focus exact rfl); (focus (intro w' u1;  go_simp; try with_reducible rfl; done)); (try dsimp only [Act.put]); (try simp only [List.setIfInBounds_toArray, List.set_cons_succ, List.set_cons_zero]))
          refine pi_done ?_
          go_wp2_with fail
          go_ret
          exact ⟨rfl, (HU7.out.trans hu9).trans hy⟩
        -- it is not
        · have HE2 := Lib.hid he2
          have HAG := Lib.hid (show aggM s2 = .agg #[.int .i64 (s2.inn : Int), .int .i64 (n2 : Int), .int .u32 (s2.sin : Int), .int .u32 (crcOf V : Int)] by unfold aggM; rw [hou, hso, ← H2.out.len2])
          have HHL := Lib.hid (show s2.held.length = 0 by rw [hhe]; rfl)
          have HF := Lib.hid hf
          subst htl
          clear hf he2 hhe hou hso hok2 H66
          generalize s2.inn = si at *
          generalize s2.sin = ss at *
          generalize hes : s.err = se at *
          clear hes
          rcases hs06 with rfl | rfl
          all_goals
            go_wp2_with fail
            refine CE.out.mono ?_
            intro e w3 hp
            obtain ⟨X3, B3, b3, rfl, hO3, hf3, hR3, hx3, hk3, hu3, hX3⟩ := hp.out hu HX.out
            rw [HE2.out]
            have h23 := (H2.out.call hx3 hk3).swap
            obtain ⟨B4, d4, w4, hap, h24, hu4, Y, hfY, hoY⟩ := h23.push hu3 (HLT.out X3 w3 g s2 hR3) (own_read hO3) (m := 0) rfl (by omega)
            rw [List.append_nil] at h24
            have hR4 := HSY.out X3 Y w3 w4 g s2 hR3 hfY hoY
            have c5 := TX.out A1 n1 c1 T w4 hu4 (own_read h24.two) HL1.out (by omega)
            have HR4 := Lib.hid hR4
            have H24 := Lib.hid h24
            have HA := Lib.hid hap
            have C5 := Lib.hid c5
            clear hp hO3 hf3 hx3 hk3 hap hR4 hR3 h23 h24 hfY hoY H2 CE hX3 HX c5
            go_wp2_with (at_builtin; refine wpList_app rfl _ _ _ rfl rfl rfl HA.out ?_)
            clear HA
            refine C5.out.mono ?_
            intro e w5 hp
            obtain ⟨hu5, B5, b5, rfl, _⟩ := hp.no HF.out
            clear hp C5
            go_wp2_with fail
            refine (HM.out X3 w5 g s2 (HU.out X3 w4 w5 g s2 HR4.out hu5)).mono ?_
            rintro e w6 ⟨rfl, hu6⟩
            rw [HAG.out]
            go_wp2_with fail
            have hob : (w6.alloc (.cells #[.int .i64 (si : Int), .int .i64 (n2 : Int), .int .u32 (ss : Int), .int .u32 (crcOf V : Int)] 44)).heap[w6.heap.size]? = some (.cells #[.int .i64 (si : Int), .int .i64 (n2 : Int), .int .u32 (ss : Int), .int .u32 (crcOf V : Int)] 44 (0, 0)) := heap_alloc_new w6 _
            have hu7 : Up w6 (w6.alloc (.cells #[.int .i64 (si : Int), .int .i64 (n2 : Int), .int .u32 (ss : Int), .int .u32 (crcOf V : Int)] 44)) := (Up.refl w6).alloc _
            generalize w6.alloc (.cells #[.int .i64 (si : Int), .int .i64 (n2 : Int), .int .u32 (ss : Int), .int .u32 (crcOf V : Int)] 44) = w7 at *
            have hu47 := (hu5.trans hu6).trans hu7
            have C1 := Lib.hid (fun w' (u : Up w7 w') => obj_cell (obj_up hob u) 1)
            have C3 := Lib.hid (fun w' (u : Up w7 w') => obj_cell (obj_up hob u) 3)
            simp only [List.getElem?_toArray, List.getElem?_cons_zero, List.getElem?_cons_succ] at C1 C3
            have S2 := Lib.hid (fun w' (u : Up w7 w') => SM.out B4 (n2 + 0) d4 V w' (hu4.trans (hu47.trans u)) ((own_read H24.out.one).up (hu47.trans u)) H24.out.len1)
            have S3 := fun w' (u : Up w7 w') => HH.out X3 w4 w' g s2 HR4.out (hu47.trans u)
            rw [HHL.out] at S3
            have HS3 := Lib.hid S3
            have HU7 := Lib.hid (hu4.trans hu47)
            clear hob H24 hu5 hu6 hu7 hu47 hu4 S3 HR4
            generalize w6.heap.size = mb at *
            generalize crcOf V = co at *
            refine wp_region_pi [(0, false), (1, false), (2, false), (3, false), (4, false), (5, false), (6, false), (7, false), (8, false), (9, false), (10, false), (11, false), (12, false), (13, true), (14, false), (15, false), (16, false), (17, false), (18, true), (19, false), (20, false), (21, false), (22, true), (23, false), (24, false)] (by kernel_rfl) (by kernel_rfl) (fun _ _ d _ _ h => by cases d <;> exact h) ?_
            ((with_reducible apply pi_take); (focus exact rfl); (focus exact rfl); (focus (intro w' u1; have x1 := C1.out w' (Up.of_drew u1); have x3 := C3.out w' (Up.of_drew u1); go_simp; try with_reducible rfl; done)); (try dsimp only [Act.put]); (try simp only [List.setIfInBounds_toArray, List.set_cons_succ, List.set_cons_zero]))
            ((with_reducible apply pi_take); (focus exact rfl); (focus exact rfl); (focus (intro w' u1; have x1 := C1.out w' (Up.of_drew u1); have x3 := C3.out w' (Up.of_drew u1); go_simp; try with_reducible rfl; done)); (try dsimp only [Act.put]); (try simp only [List.setIfInBounds_toArray, List.set_cons_succ, List.set_cons_zero]))
            ((with_reducible apply pi_take); (focus exact rfl); (focus exact rfl); (focus (intro w' u1; have x1 := C1.out w' (Up.of_drew u1); have x3 := C3.out w' (Up.of_drew u1); go_simp; try with_reducible rfl; done)); (try dsimp only [Act.put]); (try simp only [List.setIfInBounds_toArray, List.set_cons_succ, List.set_cons_zero]))
            ((with_reducible apply pi_take); (focus exact rfl); (focus exact rfl); (focus (intro w' u1; have x1 := C1.out w' (Up.of_drew u1); have x3 := C3.out w' (Up.of_drew u1); go_simp; try with_reducible rfl; done)); (try dsimp only [Act.put]); (try simp only [List.setIfInBounds_toArray, List.set_cons_succ, List.set_cons_zero]))
            ((with_reducible apply pi_take); (focus exact rfl); (focus exact rfl); (focus (intro w' u1; have x1 := C1.out w' (Up.of_drew u1); have x3 := C3.out w' (Up.of_drew u1); go_simp; try with_reducible rfl; done)); (try dsimp only [Act.put]); (try simp only [List.setIfInBounds_toArray, List.set_cons_succ, List.set_cons_zero]))
            ((with_reducible apply pi_take); (focus exact rfl); (focus exact rfl); (focus (intro w' u1; have x1 := C1.out w' (Up.of_drew u1); have x3 := C3.out w' (Up.of_drew u1); go_simp; try with_reducible rfl; done)); (try dsimp only [Act.put]); (try simp only [List.setIfInBounds_toArray, List.set_cons_succ, List.set_cons_zero]))
            ((with_reducible apply pi_take); (focus exact rfl); (focus exact rfl); (focus (intro w' u1; have x1 := C1.out w' (Up.of_drew u1); have x3 := C3.out w' (Up.of_drew u1); go_simp; try with_reducible rfl; done)); (try dsimp only [Act.put]); (try simp only [List.setIfInBounds_toArray, List.set_cons_succ, List.set_cons_zero]))
            ((with_reducible apply pi_take); (focus exact rfl); (focus exact rfl); (focus (intro w' u1; have x1 := C1.out w' (Up.of_drew u1); have x3 := C3.out w' (Up.of_drew u1); go_simp; try with_reducible rfl; done)); (try dsimp only [Act.put]); (try simp only [List.setIfInBounds_toArray, List.set_cons_succ, List.set_cons_zero]))
            ((with_reducible apply pi_take); (focus exact rfl); (focus exact rfl); (focus (intro w' u1; have x1 := C1.out w' (Up.of_drew u1); have x3 := C3.out w' (Up.of_drew u1); go_simp; try with_reducible rfl; done)); (try dsimp only [Act.put]); (try simp only [List.setIfInBounds_toArray, List.set_cons_succ, List.set_cons_zero]))
            ((with_reducible apply pi_take); (focus exact rfl); (focus exact rfl); (focus (intro w' u1; have x1 := C1.out w' (Up.of_drew u1); have x3 := C3.out w' (Up.of_drew u1); go_simp; try with_reducible rfl; done)); (try dsimp only [Act.put]); (try simp only [List.setIfInBounds_toArray, List.set_cons_succ, List.set_cons_zero]))
            ((with_reducible apply pi_take); (focus exact rfl); (focus exact rfl); (focus (intro w' u1; have x1 := C1.out w' (Up.of_drew u1); have x3 := C3.out w' (Up.of_drew u1); go_simp; try with_reducible rfl; done)); (try dsimp only [Act.put]); (try simp only [List.setIfInBounds_toArray, List.set_cons_succ, List.set_cons_zero]))
            ((with_reducible apply pi_take); (focus exact rfl); (focus exact rfl); (focus (intro w' u1; have x1 := C1.out w' (Up.of_drew u1); have x3 := C3.out w' (Up.of_drew u1); go_simp; try with_reducible rfl; done)); (try dsimp only [Act.put]); (try simp only [List.setIfInBounds_toArray, List.set_cons_succ, List.set_cons_zero]))
            ((with_reducible apply pi_take); (focus exact rfl); (focus exact rfl); (focus (intro w' u1; have x1 := C1.out w' (Up.of_drew u1); have x3 := C3.out w' (Up.of_drew u1); go_simp; try with_reducible rfl; done)); (try dsimp only [Act.put]); (try simp only [List.setIfInBounds_toArray, List.set_cons_succ, List.set_cons_zero]))
            refine pi_make rfl rfl (fun K hK => ?_)
            go_simp
            refine (S2.out _ (Up.of_drew (Up.refl _))).mono ?_
            rintro e w8 ⟨rfl, hy⟩
            refine hK.out _ _ hy ?_
            have hu8 := Up.of_drew hy
            clear hK K hy
            ((with_reducible apply pi_take); (focus exact rfl); (focus exact rfl); (focus (intro w' u1;  go_simp; try with_reducible rfl; done)); (try dsimp only [Act.put]); (try simp only [List.setIfInBounds_toArray, List.set_cons_succ, List.set_cons_zero]))
            ((with_reducible apply pi_take); (focus exact rfl); (focus exact rfl); (focus (intro w' u1;  go_simp; try with_reducible rfl; done)); (try dsimp only [Act.put]); (try simp only [List.setIfInBounds_toArray, List.set_cons_succ, List.set_cons_zero]))
            ((with_reducible apply pi_take); (focus exact rfl); (focus exact rfl); (focus (intro w' u1;  go_simp; try with_reducible rfl; done)); (try dsimp only [Act.put]); (try simp only [List.setIfInBounds_toArray, List.set_cons_succ, List.set_cons_zero]))
            ((with_reducible apply pi_take); (focus exact rfl); (focus exact rfl); (focus (intro w' u1;  go_simp; try with_reducible rfl; done)); (try dsimp only [Act.put]); (try simp only [List.setIfInBounds_toArray, List.set_cons_succ, List.set_cons_zero]))
            refine pi_make rfl rfl (fun K hK => ?_)
            go_simp
            refine (HS3.out _ hu8).mono ?_
            rintro e w9 ⟨rfl, hy⟩
            refine hK.out _ _ hy ?_
            have hu9 := hu8.trans hy
            clear hK K hy
            ((with_reducible apply pi_take); (focus exact rfl); (focus exact rfl); (focus (intro w' u1;  go_simp; try with_reducible rfl; done)); (try dsimp only [Act.put]); (try simp only [List.setIfInBounds_toArray, List.set_cons_succ, List.set_cons_zero]))
            ((with_reducible apply pi_take); (focus exact rfl); (focus exact rfl); (focus (intro w' u1;  go_simp; try with_reducible rfl; done)); (try dsimp only [Act.put]); (try simp only [List.setIfInBounds_toArray, List.set_cons_succ, List.set_cons_zero]))
            ((with_reducible apply pi_take); (focus exact rfl); (focus exact rfl); (focus (intro w' u1;  go_simp; try with_reducible rfl; done)); (try dsimp only [Act.put]); (try simp only [List.setIfInBounds_toArray, List.set_cons_succ, List.set_cons_zero]))
            refine pi_make rfl rfl (fun K hK => ?_)
            go_simp
            refine (AW.out _ (HU7.out.trans hu9)).mono ?_
            rintro e wa ⟨rfl, hy⟩
            refine hK.out _ _ hy ?_
            clear hK K
            ((with_reducible apply pi_take); (focus exact rfl); (focus exact rfl); (focus (intro w' u1;  go_simp; try with_reducible rfl; done)); (try dsimp only [Act.put]); (try simp only [List.setIfInBounds_toArray, List.set_cons_succ, List.set_cons_zero]))
            ((with_reducible apply pi_take); (focus exact rfl); (focus exact rfl); (focus (intro w' u1;  go_simp; try with_reducible rfl; done)); (try dsimp only [Act.put]); (try simp only [List.setIfInBounds_toArray, List.set_cons_succ, List.set_cons_zero]))
            refine pi_done ?_
            go_wp2_with fail
            go_ret
            exact ⟨rfl, (HU7.out.trans hu9).trans hy⟩

end Go.Proofs.YtipemmjbgegmfaaDoor
