/- The statements of stage 10: from a mark. -/
import Derived.Test.YtipemmjbgegmfaaDoorSts
namespace Go.Proofs.YtipemmjbgegmfaaDoor
open Go.RowKit Go.Proofs.YtipemmjbgegmfaaDoor.Ordr Go.Proofs.YtipemmjbgegmfaaDoor.Cmpr

/-- The state ahead of the j-th piece. -/
def MkSt (W : World) (Rep : (Nat → Prop) → World → Nat → SS → Prop) (LL : List (List UInt8)) (g mb k j e ah : Nat) (v1 : Value) (n1 : Nat) (v2 : Value) (n2 : Nat) (X : Nat → Prop) (s : SS) (T V : List UInt8) (a b c d : Value) (wr : World) : Prop :=
  T = (LL.take j).flatten ∧ (∃ cs r, Went SS.new T V cs r s) ∧ s.Ok n1 ∧ Rep X wr g s ∧ (∀ b, X b → W.heap.size ≤ b) ∧ Two W X wr v1 n1 T v2 n2 V ∧ Mb W X wr mb v1 v2 a b c d ∧ (k < e → Marked (LL.take k).flatten T ah a b c d) ∧ Up W wr

/-- The mark is written. -/
theorem Mb.write {W : World} {X : Nat → Prop} {w : World} {mb : Nat} {v1 v2 a b c d : Value} (h : Mb W X w mb v1 v2 a b c d) (x y z u : Value) :
    Mb W X ((((w.setCell ⟨mb, 0, none⟩ x).setCell ⟨mb, 1, none⟩ y).setCell ⟨mb, 2, none⟩ z).setCell ⟨mb, 3, none⟩ u) mb v1 v2 x y z u ∧ Fx (fun b => b = mb) w ((((w.setCell ⟨mb, 0, none⟩ x).setCell ⟨mb, 1, none⟩ y).setCell ⟨mb, 2, none⟩ z).setCell ⟨mb, 3, none⟩ u) := by
  have h1 := obj_set (obj_set (obj_set (obj_set h.obj 0 x) 1 y) 2 z) 3 u
  have hf := (((Fr.refl mb mb w).setCell (p := ⟨mb, 0, none⟩) (.inl rfl) x).setCell (p := ⟨mb, 1, none⟩) (.inl rfl) y).setCell (p := ⟨mb, 2, none⟩) (.inl rfl) z |>.setCell (p := ⟨mb, 3, none⟩) (.inl rfl) u
  exact ⟨⟨h1, h.lo, h.off, h.off1, h.off2⟩, hf.os, hf.tape, hf.output, hf.size, fun i hi hn => hf.block i hi hn hn⟩
theorem Two.other {W : World} {X : Nat → Prop} {wr w' : World} {v1 : Value} {n1 : Nat} {T : List UInt8} {v2 : Value} {n2 : Nat} {U : List UInt8} (h : Two W X wr v1 n1 T v2 n2 U) {mb : Nat} (hf : Fx (fun b => b = mb) wr w') (h1 : v1.ownBlock ≠ some mb) (h2 : v2.ownBlock ≠ some mb) : Two W X w' v1 n1 T v2 n2 U :=
  ⟨own_fx h.one hf (fun b hb hx => h1 (by rw [hb, hx])), own_fx h.two hf (fun b hb hx => h2 (by rw [hb, hx])), h.off1, h.off2, h.apart, h.len1, h.len2⟩

set_option maxRecDepth 100000 in
set_option maxHeartbeats 6400000 in
theorem marks_of10 {G : World → Prop} {Rep : (Nat → Prop) → World → Nat → SS → Prop} (hG : Ground G) (H : StreamOk G Rep) (W : World) (hw : G W) (O : Option Addr) (len cap : Nat) (LL : List (List UInt8)) (hlen : LL.length = len) (hlc : len ≤ cap) (hcm : cap ≤ 9223372036854775807) (hin : RowsIn W O LL) (at_ : Int) (hat : 0 ≤ at_ ∧ at_ < 256) (cut : Int) (hcu : 0 ≤ cut ∧ cut < 65536) :
    Calls Tryd.prog 10 #[.slice O len cap, .int .u8 at_, .int .u16 cut] W fun e w' => e = .returned (.bool true) ∧ Up W w' := by
  have AW := Lib.hid (fun w' (u : Up W w') => awake_10 hG H w' (hG _ _ hw u))
  have cf := few_walk W O len cap LL hlen hlc hcm hin
  obtain ⟨ha0, ha1⟩ := hat
  obtain ⟨hc0, hc1⟩ := hcu
  cases hfew : fewB LL with
  | false =>
    rw [hfew] at cf
    have CF := Lib.hid cf
    clear cf hfew H hin
    go_enter Tryd.func10, Tryd.ntmps10
    go_wp2_with fail
    refine CF.out.mono ?_
    rintro e w1 ⟨rfl, rfl⟩
    go_wp2_with fail
    refine (AW.out _ (Up.refl _)).mono ?_
    rintro e w2 ⟨rfl, hu⟩
    go_wp2_with fail
    go_ret
    exact ⟨rfl, hu⟩
  | true =>
    rw [hfew] at cf
    have CF := Lib.hid cf
    obtain ⟨hl60, hfl⟩ := few_yes hfew
    have HFL := Lib.hid hfl
    have HLN := Lib.hid hlen
    have HWR := Lib.hid (fun X w' g s T k (hk : k < LL.length) A c (u : Up W w') (hX : ∀ b, X b → W.heap.size ≤ b) (hR : Rep X w' g s) (hq : s.Ok T) (hT : T + LL[k].length ≤ 600) (hr : Rd W A c (bs LL[k])) =>
      H.write X w' g s T A LL[k].length c LL[k] (hG _ _ hw u) hR hq (by omega) (hr.up u) rfl (rd_apart hr hX))
    have HW2 := Lib.hid (fun X w' g s q A n d b (u : Up W w') (hR : Rep X w' g s) (hq : s.Ok q) (hT : q + n ≤ 2000) (hr : Rd w' A d (bs b)) (hn : n = b.length) (ha : 0 < d → ∀ a, A = some a → ¬ X a.block) => H.write X w' g s q A n d b (hG _ _ hw u) hR hq hT hr hn ha)
    have HE := Lib.hid (fun X w' g s T (u : Up W w') (hR : Rep X w' g s) (hq : s.Ok T) (hT : T ≤ 600) => H.fin X w' g s T (hG _ _ hw u) hR hq (by omega))
    have HM := Lib.hid (fun X w1 g s (hR : Rep X w1 g s) => H.mark X w1 g s hR)
    have HU := Lib.hid (fun X w1 w2 g s (hR : Rep X w1 g s) (u : Up w1 w2) => H.up hR u)
    have HSY := Lib.hid (fun X Y w1 w2 g s (hR : Rep X w1 g s) (hf : Fx Y w1 w2) (ho : ∀ b, X b → ¬ Y b) => H.stay X Y w1 w2 g s hR hf ho)
    have HLT := Lib.hid (fun X w1 g s (hR : Rep X w1 g s) => H.lt X w1 g s hR)
    have HN := Lib.hid (H.new W hw)
    have HFR := Lib.hid (fun w' s (u : Up W w') (h1 : SS.Ok s 0) h2 h3 h4 h5 => H.from_ w' s (hG _ _ hw u) h1 h2 h3 h4 h5)
    rw [hlen] at hl60
    have hk0 : (0 : Int) ≤ at_ % ((len : Int) + 1) := Int.emod_nonneg _ (by omega)
    have hk1 : at_ % ((len : Int) + 1) < (len : Int) + 1 := Int.emod_lt_of_pos _ (by omega)
    clear cf hfew hfl hlen H
    go_enter Tryd.func10, Tryd.ntmps10
    go_wp2_with fail
    refine CF.out.mono ?_
    rintro e w1 ⟨rfl, rfl⟩
    go_wp2_with fail
    refine HN.out.mono ?_
    rintro e w1 ⟨X1, g, rfl, hR1, hu1, hX1⟩
    have hlt1 := HLT.out X1 w1 g _ hR1
    have HR1 := Lib.hid hR1
    have HX1 := Lib.hid hX1
    clear hR1 hX1 HN CF
    go_wp2_with fail
    generalize at_ % ((len : Int) + 1) = z at *
    obtain ⟨k, rfl⟩ := Int.eq_ofNat_of_zero_le hk0
    have hkn : k ≤ len := by omega
    clear hk0 hk1 ha0 ha1
    have hI0 : MkSt W Rep LL g w1.heap.size k 0 0 0 (.slice none 0 0) 0 (.slice none 0 0) 0 X1 SS.new [] [] (.int .i64 0) (.int .i64 0) (.int .u32 0) (.int .u32 0) (w1.alloc (.cells #[.int .i64 0, .int .i64 0, .int .u32 0, .int .u32 0] 44)) :=
      ⟨rfl, ⟨[], [], Went.new _ rfl rfl⟩, SS.new_ok, HU.out X1 w1 _ g _ HR1.out ((Up.refl w1).alloc _), HX1.out, Two.new _ _ _, ⟨heap_alloc_new w1 _, hu1.size, fun hx => Nat.lt_irrefl _ (hlt1 _ hx), (fun h => by cases h), (fun h => by cases h)⟩, (fun h => absurd h (Nat.not_lt_zero _)), hu1.alloc _⟩
    have HI0 := Lib.hid hI0
    clear hI0 hlt1 HR1 HX1 hu1
    generalize w1.alloc (.cells #[.int .i64 0, .int .i64 0, .int .u32 0, .int .u32 0] 44) = w2 at *
    generalize w1.heap.size = mb at *
    go_loopw [8, 9, 12, 13] (fun al ou ah i wr => ∃ (j q : Nat) (A1 A2 : Option Addr) (n1 c1 n2 c2 : Nat), j ≤ len ∧ i = .int .i64 (j : Int) ∧ al = .slice A1 n1 c1 ∧ ou = .slice A2 n2 c2 ∧ ah = .int .i64 (q : Int) ∧ n1 ≤ 600 ∧ n2 ≤ 20000 ∧ Hid (∃ (X : Nat → Prop) (s : SS) (T V : List UInt8) (a b c d : Value), MkSt W Rep LL g mb k j j q (.slice A1 n1 c1) n1 (.slice A2 n2 c2) n2 X s T V a b c d wr)) (fun _ _ _ i _ => len - (intOf i).toNat)
    case atStart => exact ⟨0, 0, none, none, 0, 0, 0, 0, Nat.zero_le _, rfl, rfl, rfl, rfl, Nat.zero_le _, Nat.zero_le _, Lib.hid ⟨_, _, _, _, _, _, _, _, HI0.out⟩⟩
    case round =>
      obtain ⟨j, q, A1, A2, n1, c1, n2, c2, hj, rfl, rfl, rfl, rfl, hn1, hn2, HI⟩ := hrel
      clear HI0
      obtain ⟨X, s, T, V, a, b, c, d, hI⟩ := HI.out
      clear HI
      by_cases hlt : j < len
      · -- a piece more
        by_cases hjk : j = k
        case' pos =>
          subst hjk
          have hjk : ((j : Int) == (j : Int)) = true := by simp
          obtain ⟨hT, ⟨cs, r, hwe⟩, hok, hR, hX, h2, hmb, _, hu⟩ := hI
          have cm := HM.out X wr g s hR
          unfold aggM at cm
          have CM := Lib.hid cm
          have HMB := Lib.hid (fun w' (u : Up wr w') => (hmb.up u).write (.int .i64 (s.inn : Int)) (.int .i64 (s.out : Int)) (.int .u32 (s.sin : Int)) (.int .u32 (s.sout : Int)))
          have HC := Lib.hid (fun w' (u : Up wr w') => obj_up hmb.obj u)
          have HI3 := Lib.hid (fun w' (u : Up wr w') (w3 : World) (hf : Fx (fun b => b = mb) w' w3) (hm : Mb W X w3 mb (.slice A1 n1 c1) (.slice A2 n2 c2) (.int .i64 (s.inn : Int)) (.int .i64 (s.out : Int)) (.int .u32 (s.sin : Int)) (.int .u32 (s.sout : Int))) =>
            (⟨hT, ⟨cs, r, hwe⟩, hok, HSY.out X _ w' w3 g s (HU.out X wr w' g s hR u) hf (fun b hx e => hmb.off (e ▸ hx)), hX, (h2.up u).other hf hmb.off1 hmb.off2, hm, fun _ => ⟨s, V, r, [], cs, by rw [← hT]; exact hwe, by rw [List.append_nil, hT], h2.len2, rfl, rfl, rfl, rfl⟩, (hu.trans u).fx hf (fun b e => by rw [e]; exact hmb.lo)⟩ :
              MkSt W Rep LL g mb j j (j + 1) n2 (.slice A1 n1 c1) n1 (.slice A2 n2 c2) n2 X s T V (.int .i64 (s.inn : Int)) (.int .i64 (s.out : Int)) (.int .u32 (s.sin : Int)) (.int .u32 (s.sout : Int)) w3))
          clear hT hwe hok hR hX h2 hmb hu cm
          generalize (s.inn : Int) = z1 at *
          generalize (s.out : Int) = z2 at *
          generalize (s.sin : Int) = z3 at *
          generalize (s.sout : Int) = z4 at *
          go_wp2_with fail
          refine CM.out.mono ?_
          rintro e w3 ⟨rfl, hu3⟩
          have hob := HC.out w3 hu3
          have b0 := obj_cell hob 0
          have b1 := obj_cell hob 1
          have b2 := obj_cell hob 2
          have b3 := obj_cell hob 3
          simp only [List.getElem?_toArray, List.getElem?_cons_zero, List.getElem?_cons_succ] at b0 b1 b2 b3
          have f0 := obj_frozen hob 0
          have f1 := obj_frozen hob 1
          have f2 := obj_frozen hob 2
          have f3 := obj_frozen hob 3
          have hmw := HMB.out w3 hu3
          have HI := Lib.hid (HI3.out w3 hu3 _ hmw.2 hmw.1)
          clear hob hmw HI3 HMB HC CM hu3
        case' neg =>
          have hjkb : ((j : Int) == (k : Int)) = false := by simp; omega
          obtain ⟨hT, hwe, hok, hR, hX, h2, hmb, hmk, hu⟩ := hI
          have HI := Lib.hid (show MkSt W Rep LL g mb k j (j + 1) q (.slice A1 n1 c1) n1 (.slice A2 n2 c2) n2 X s T V a b c d wr from ⟨hT, hwe, hok, hR, hX, h2, hmb, fun h => hmk (by omega), hu⟩)
          clear hT hwe hok hR hX h2 hmb hmk hu
        all_goals
          obtain ⟨hT, ⟨cs', r', hwe⟩, hok, hR, hX, h2, hmb, hmk, hu⟩ := HI.out
          have hkl : j < LL.length := by rw [HLN.out]; exact hlt
          obtain ⟨a', A, c', rfl, hab, hcell0, hrd⟩ := hin j hkl
          have hcell := (Below.cell hu (p := a'.add j) (by rw [addr_block]; exact hab)).trans hcell0
          have hfl := flat_le LL j hkl
          have hfs := flat_succ LL j hkl
          have hT2 : n1 + LL[j].length ≤ 600 := by have := HFL.out; have := h2.len1; rw [hT] at this; omega
          obtain ⟨B1, d1, w4, hap, h22, hu2, Y, hfY, hoY, hY⟩ := h2.push2 hu (HLT.out X _ g s hR) (hrd.up hu) rfl (by omega)
          have hR2 := HSY.out X Y _ w4 g s hR hfY hoY
          have hmb2 := hmb.push hfY hY
          have cw := HWR.out X w4 g s n1 j hkl A c' hu2 hX hR2 hok hT2 hrd
          have hcell2 : w4.cell? (a'.add j) = some (.slice A LL[j].length c') := (Below.cell hu2 (p := a'.add j) (by rw [addr_block]; exact hab)).trans hcell0
          have HT2 := Lib.hid (show T ++ LL[j] = (LL.take (j + 1)).flatten by rw [hfs, hT])
          have hok2 := hok.write LL[j]
          have HWE := Lib.hid (hwe.write LL[j])
          have hto : n2 + (s.told LL[j]).length ≤ 20000 := by
            have h5 := txt_told_len hwe hok LL[j]
            rw [List.length_append, List.length_append, ← h2.len1, ← h2.len2] at h5
            omega
          have HMK := Lib.hid (fun h => (hmk h).more LL[j])
          have HA := Lib.hid hap
          have CW := Lib.hid cw
          have HOK2 := Lib.hid hok2
          have H22 := Lib.hid h22
          have HMB2 := Lib.hid hmb2
          have HX := Lib.hid hX
          clear hap cw hok2 hwe hok hR hR2 hrd hfl hfs hcell0 HI h2 h22 hfY hoY hY hT hX hmb hmb2 hmk hu
          generalize s.write LL[j] = s2 at *
          generalize s.told LL[j] = tl at *
          generalize hm : LL[j].length = m at *
          have Hm := Lib.hid hm
          clear hm
          go_wp2_with (at_builtin; refine wpList_app rfl _ _ _ rfl rfl rfl HA.out ?_)
          clear HA hcell
          refine CW.out.mono ?_
          intro e w5 hp
          obtain ⟨X3, B3, b3, rfl, hO3, hf3, hR3, hx3, hk3, hu3, hX3⟩ := hp.out hu2 HX.out
          have h23 := (H22.out.call hx3 hk3).swap
          have hmb3 := (HMB2.out.call hx3 hk3).swap
          obtain ⟨B4, d4, w6, hap, h24, hu4, Y, hfY, hoY, hY⟩ := h23.push2 hu3 (HLT.out X3 w5 g s2 hR3) (own_read hO3) rfl (by omega)
          have hR4 := HSY.out X3 Y w5 w6 g s2 hR3 hfY hoY
          have HMB4 := Lib.hid (hmb3.push hfY hY).swap
          have HR4 := Lib.hid hR4
          have H24 := Lib.hid h24.swap
          have HX3 := Lib.hid hX3
          have HA := Lib.hid hap
          clear hp hO3 hf3 hx3 hk3 hap hR4 hR3 h23 h24 hfY hoY hY H22 CW hcell2 hX3 HMB2 hmb3
          generalize tl.length = q2 at *
          go_wp2_with (at_builtin; refine wpList_app rfl _ _ _ rfl rfl rfl HA.out ?_)
          go_roundw
          case rel =>
            exact ⟨j + 1, _, B1, B4, n1 + m, d1, n2 + q2, d4, by omega, by go_num, rfl, rfl, rfl, by omega, by omega, Lib.hid ⟨X3, s2, _, _, _, _, _, _, HT2.out, HWE.out, HOK2.out, HR4.out, HX3.out, H24.out, HMB4.out, HMK.out, hu4⟩⟩
          case measure => simp [intOf]; omega
      · -- all pieces are through
        by_cases hjk : j = k
        case' pos =>
          subst hjk
          have hjk : ((j : Int) == (j : Int)) = true := by simp
          obtain ⟨hT, ⟨cs, r, hwe⟩, hok, hR, hX, h2, hmb, _, hu⟩ := hI
          have cm := HM.out X wr g s hR
          unfold aggM at cm
          have CM := Lib.hid cm
          have HMB := Lib.hid (fun w' (u : Up wr w') => (hmb.up u).write (.int .i64 (s.inn : Int)) (.int .i64 (s.out : Int)) (.int .u32 (s.sin : Int)) (.int .u32 (s.sout : Int)))
          have HC := Lib.hid (fun w' (u : Up wr w') => obj_up hmb.obj u)
          have HI3 := Lib.hid (fun w' (u : Up wr w') (w3 : World) (hf : Fx (fun b => b = mb) w' w3) (hm : Mb W X w3 mb (.slice A1 n1 c1) (.slice A2 n2 c2) (.int .i64 (s.inn : Int)) (.int .i64 (s.out : Int)) (.int .u32 (s.sin : Int)) (.int .u32 (s.sout : Int))) =>
            (⟨hT, ⟨cs, r, hwe⟩, hok, HSY.out X _ w' w3 g s (HU.out X wr w' g s hR u) hf (fun b hx e => hmb.off (e ▸ hx)), hX, (h2.up u).other hf hmb.off1 hmb.off2, hm, fun _ => ⟨s, V, r, [], cs, by rw [← hT]; exact hwe, by rw [List.append_nil, hT], h2.len2, rfl, rfl, rfl, rfl⟩, (hu.trans u).fx hf (fun b e => by rw [e]; exact hmb.lo)⟩ :
              MkSt W Rep LL g mb j j (j + 1) n2 (.slice A1 n1 c1) n1 (.slice A2 n2 c2) n2 X s T V (.int .i64 (s.inn : Int)) (.int .i64 (s.out : Int)) (.int .u32 (s.sin : Int)) (.int .u32 (s.sout : Int)) w3))
          clear hT hwe hok hR hX h2 hmb hu cm
          generalize (s.inn : Int) = z1 at *
          generalize (s.out : Int) = z2 at *
          generalize (s.sin : Int) = z3 at *
          generalize (s.sout : Int) = z4 at *
          go_wp2_with fail
          refine CM.out.mono ?_
          rintro e w3 ⟨rfl, hu3⟩
          have hob := HC.out w3 hu3
          have b0 := obj_cell hob 0
          have b1 := obj_cell hob 1
          have b2 := obj_cell hob 2
          have b3 := obj_cell hob 3
          simp only [List.getElem?_toArray, List.getElem?_cons_zero, List.getElem?_cons_succ] at b0 b1 b2 b3
          have f0 := obj_frozen hob 0
          have f1 := obj_frozen hob 1
          have f2 := obj_frozen hob 2
          have f3 := obj_frozen hob 3
          have hmw := HMB.out w3 hu3
          have HI := Lib.hid (HI3.out w3 hu3 _ hmw.2 hmw.1)
          clear hob hmw HI3 HMB HC CM hu3
        case' neg =>
          have hjkb : ((j : Int) == (k : Int)) = false := by simp; omega
          obtain ⟨hT, hwe, hok, hR, hX, h2, hmb, hmk, hu⟩ := hI
          have HI := Lib.hid (show MkSt W Rep LL g mb k j (j + 1) q (.slice A1 n1 c1) n1 (.slice A2 n2 c2) n2 X s T V a b c d wr from ⟨hT, hwe, hok, hR, hX, h2, hmb, fun h => hmk (by omega), hu⟩)
          clear hT hwe hok hR hX h2 hmb hmk hu
        all_goals
          obtain ⟨hT, ⟨cs', r', hwe⟩, hok, hR, hX, h2, hmb, hmk, hu⟩ := HI.out
          have hT6 : T.length ≤ 600 := by rw [← h2.len1]; exact hn1
          obtain ⟨sk, Uk, rk, D, csk, hwk, hTD, hah, hagg, ha1, hb1, hc1', hd1, hin6, hsok, hso, hs0⟩ := (hmk (by omega)).nums hT6
          subst hah
          have hlast := last_len hwe
          rw [List.length_append, ← h2.len1, ← h2.len2] at hlast
          have CE := Lib.hid (HE.out X _ g s n1 hu hR hok hn1)
          have HU0 := Lib.hid hu
          have HOKF := Lib.hid hok.fin
          have H2 := Lib.hid h2
          have HX := Lib.hid hX
          have HMBX := Lib.hid hmb
          have HL1 := Lib.hid h2.len1
          have hin7 : sk.inn ≤ n1 := by rw [h2.len1]; exact hin6
          have HAG := Lib.hid hagg
          have HC := Lib.hid (⟨ha1, hb1, hc1', hd1⟩ : _ ∧ _ ∧ _ ∧ _)
          have FR := Lib.hid (fun w' (u : Up W w') => HFR.out w' sk.at u hsok rfl rfl (by show sk.out ≤ _; omega) hs0)
          have HSOK := Lib.hid hsok
          have HMV := Lib.hid (fun p q h => marks_vals hwk hTD hwe p q h)
          have HT6 := Lib.hid hT6
          have hlast2 : sk.out ≤ 9600 := hso
          clear hwe hok hR hT h2 hX HI hmb hmk hu hT6 hwk hTD hagg hin6 hsok hso hs0 ha1 hb1 hc1' hd1 Uk rk D csk r' cs' hin
          generalize s.last = tl at *
          generalize s.fin = sf at *
          go_wp2_with fail
          refine CE.out.mono ?_
          intro e w3 hp
          obtain ⟨X4, B4, b4, rfl, hO4, hf4, hR4, hx4, hk4, hu4, hX4⟩ := hp.out HU0.out HX.out
          have h23 := (H2.out.call hx4 hk4).swap
          have hmb3 := (HMBX.out.call hx4 hk4).swap
          obtain ⟨B5, d5, w4, hap, h24, hu5, Y, hfY, hoY, hY⟩ := h23.push2 hu4 (HLT.out X4 w3 g sf hR4) (own_read hO4) rfl (by omega)
          have hR5 := HSY.out X4 Y w3 w4 g sf hR4 hfY hoY
          have hob := (hmb3.push hfY hY).obj
          have HLO := Lib.hid h24.len1
          have HR5 := Lib.hid hR5
          have HOUT := Lib.hid (own_read h24.one)
          have HALL := Lib.hid (own_read h24.two)
          have HU4 := Lib.hid hu5
          have HA := Lib.hid hap
          have HOB := Lib.hid (fun w' (u : Up w4 w') => obj_up hob u)
          have HLX := Lib.hid (HLT.out X4 w4 g sf hR5)
          rw [HC.out.1, HC.out.2.1, HC.out.2.2.1, HC.out.2.2.2] at HOB HAG
          clear hp hO4 hf4 hx4 hk4 hap hR4 hR5 h23 h24 hfY hoY hY H2 CE hX4 HMBX hmb3 hob HX HU0 hu4 hu5 HC
          generalize tl.length = q2 at *
          -- what is read of the mark
          have o4 := HOB.out w4 (Up.refl _)
          have b0 := obj_cell o4 0
          have b1 := obj_cell o4 1
          have b2 := obj_cell o4 2
          have b3 := obj_cell o4 3
          simp only [List.getElem?_toArray, List.getElem?_cons_zero, List.getElem?_cons_succ] at b0 b1 b2 b3
          clear o4
          have C5 := FR.out w4 HU4.out
          rw [← HAG.out] at C5
          have C5 := Lib.hid C5
          clear FR
          go_wp2_with (at_builtin; refine wpList_app rfl _ _ _ rfl rfl rfl HA.out ?_)
          clear HA b0 b1 b2 b3
          refine C5.out.mono ?_
          rintro e w5 ⟨X5, g5, rfl, hR6, hu6, hX5⟩
          clear C5
          have o5 := HOB.out w5 hu6
          have b0 := obj_cell o5 0
          have b1 := obj_cell o5 1
          simp only [List.getElem?_toArray, List.getElem?_cons_zero, List.getElem?_cons_succ] at b0 b1
          clear o5 HOB HAG
          obtain ⟨A6, hsl1, hr6⟩ := HALL.out.tail n1 sk.inn HL1.out hin7
          have hl6 : (T.drop sk.inn).length = n1 - sk.inn := by rw [List.length_drop, ← HL1.out]
          have hmr : n1 - sk.inn ≤ 600 := by omega
          generalize n1 - sk.inn = mr at *
          generalize c1 - sk.inn = cr at *
          have hq0 : (0 : Int) ≤ cut % ((mr : Int) + 1) := Int.emod_nonneg _ (by omega)
          have hq1 : cut % ((mr : Int) + 1) < (mr : Int) + 1 := Int.emod_lt_of_pos _ (by omega)
          obtain ⟨cc, hcc⟩ := Int.eq_ofNat_of_zero_le hq0
          have hcm2 : cc ≤ mr := by omega
          obtain ⟨A7, hsl2, hr7⟩ := hr6.head mr cc hl6.symm hcm2
          obtain ⟨A8, hsl3, hr8⟩ := hr6.tail mr cc hl6.symm hcm2
          have hmv := HMV.out _ _ (List.take_append_drop cc (T.drop sk.inn)).symm
          have hp1 : ((T.drop sk.inn).take cc).length = cc := by rw [List.length_take, hl6]; omega
          have hp2 : ((T.drop sk.inn).drop cc).length = mr - cc := by rw [List.length_drop, hl6]
          have t1 : decide ((n1 : Int) < (sk.inn : Int)) = false := decide_eq_false (by omega)
          have t2 : decide (n1 < sk.inn) = false := decide_eq_false (by omega)
          generalize (T.drop sk.inn).take cc = p at *
          generalize (T.drop sk.inn).drop cc = qq at *
          have hok1 := HSOK.out.write p
          rw [hp1, Nat.zero_add] at hok1
          have hok2 := hok1.write qq
          rw [hp2, show cc + (mr - cc) = mr by omega] at hok2
          have CW1 := Lib.hid (HW2.out X5 w5 g5 sk.at 0 A7 cc cr p (HU4.out.trans hu6) hR6 HSOK.out (by omega) (hr7.up hu6) hp1.symm (rd_apart hr7 hX5))
          have CW2 := Lib.hid (fun X6 w6 (hR : Rep X6 w6 g5 (sk.at.write p)) (u : Up w4 w6) (hX : ∀ k, X6 k → w4.heap.size ≤ k) => HW2.out X6 w6 g5 (sk.at.write p) cc A8 (mr - cc) (cr - cc) qq (HU4.out.trans u) hR hok1 (by omega) (hr8.up u) hp2.symm (rd_apart hr8 hX))
          have CE2 := Lib.hid (fun X7 w7 (hR : Rep X7 w7 g5 ((sk.at.write p).write qq)) (u : Up w4 w7) => HE.out X7 w7 g5 _ mr (HU4.out.trans u) hR hok2 hmr)
          have HMV2 := Lib.hid hmv
          clear HALL HL1 HMV HSOK HW2 HE hr6 hr7 hr8 hl6 hp1 hp2 hok1 hok2 hmv hq0 hq1 hR6
          generalize sk.at.told p = tx at *
          generalize sk.at.write p = s1 at *
          generalize s1.told qq = ty at *
          generalize s1.write qq = s2 at *
          generalize s2.last = tz at *
          generalize s2.fin = tf at *
          generalize mr - cc = mq at *
          generalize cr - cc = cq at *
          go_wp2_with fail
          refine CW1.out.mono ?_
          intro e w6 hp
          obtain ⟨X6, B6, b6, rfl, hO6, hf6, hR7, hx6, hk6, hu7, hX6⟩ := hp.out (W := w4) hu6 hX5
          have C2 := Lib.hid (CW2.out X6 w6 hR7 hu7 hX6)
          clear CW1 CW2 hp b0 b1 hR7 hx6 hk6
          go_wp2_with fail
          refine C2.out.mono ?_
          intro e w7 hp
          obtain ⟨X7, B7, b7, rfl, hO7, hf7, hR8, hx7, hk7, hu8, hX7⟩ := hp.out (W := w4) hu7 hX6
          have hOx := own_fx hO6 hx7 hf6
          have hfx := hf6.step hO6 hk7
          have C3 := Lib.hid (CE2.out X7 w7 hR8 hu8)
          clear C2 CE2 hp hO6 hf6 hR8 hx7 hk7
          go_wp2_with fail
          refine C3.out.mono ?_
          intro e w8 hp
          obtain ⟨X8, B8, b8, rfl, hO8, hf8, hR9, hx8, hk8, hu9, hX8⟩ := hp.out (W := w4) hu8 hX7
          have SX := Lib.hid (fun w' (u : Up w8 w') => Rd.str (n := tx.length) ((own_read (own_fx hOx hx8 hfx)).up u) rfl)
          have SY := Lib.hid (fun w' (u : Up w8 w') => Rd.str (n := ty.length) ((own_read (own_fx hO7 hx8 hf7)).up u) rfl)
          have SZ := Lib.hid (fun w' (u : Up w8 w') => Rd.str (n := tz.length) ((own_read hO8).up u) rfl)
          have MT := Lib.hid (fun w' (u : Up w8 w') => HM.out X8 w' g5 tf (HU.out X8 w8 w' g5 tf hR9 u))
          have MS := Lib.hid (fun w' (u : Up w8 w') => HM.out X4 w' g sf (HU.out X4 w4 w' g sf HR5.out (hu9.trans u)))
          have HU8 := Lib.hid (HU4.out.trans hu9)
          clear C3 hp hO7 hf7 hO8 hf8 hR9 hx8 hk8 hX8 hX7 hX6 hX5 hOx hfx hu6 hu7 hu8 hcc hsl1 hsl2 hsl3
          rcases HMV2.out with ⟨he1, he2⟩ | ⟨he1, he2, hxy, hag, hle⟩
          -- it is not right
          · rw [he1, he2]
            clear HMV2
            go_wp2_with fail
            refine (AW.out _ HU8.out).mono ?_
            rintro e w9 ⟨rfl, hy⟩
            go_wp2_with fail
            go_ret
            exact ⟨rfl, HU8.out.trans hy⟩
          -- it is right
          · rw [he1, he2]
            obtain ⟨A9, nn, dd, hsl4, hnn, hr9⟩ := HOUT.out.tailX _ sk.out HLO.out hle
            have SO := Lib.hid (fun w' (u : Up w8 w') => Rd.str (n := nn) (hr9.up (hu9.trans u)) hnn)
            have hlen9 : tx.length + ty.length + tz.length ≤ 20000 := by
              have e1 := congrArg List.length hxy
              rw [List.length_append, List.length_append, List.length_drop, ← HLO.out] at e1
              omega
            have hs1 : ¬ 9223372036854775807 < tx.length + ty.length := by omega
            have hs2 : ¬ 9223372036854775807 < tx.length + ty.length + tz.length := by omega
            have HCAT := Lib.hid (show ((⟨tx.toArray⟩ : ByteArray) ++ ⟨ty.toArray⟩) ++ ⟨tz.toArray⟩ = ⟨((V ++ tl).drop sk.out).toArray⟩ by rw [← hxy]; apply ByteArray.ext; simp)
            have HAG := Lib.hid hag
            clear HMV2 hr9 hxy hag hle HOUT HLO he1 he2 hnn hlen9
            generalize (V ++ tl).drop sk.out = od at *
            go_wp2_with fail
            refine wp_region_pi [(0, false), (1, false), (2, false), (3, false), (4, false), (5, false), (6, false), (7, false), (8, false), (9, false), (10, false), (11, false), (12, false), (13, false), (14, false), (15, false), (16, false), (17, false), (18, false), (20, false), (19, true), (21, true), (22, false), (23, false), (24, false), (25, true), (26, false), (27, false)] (by kernel_rfl) (by kernel_rfl) (fun _ _ d _ _ h => by cases d <;> exact h) ?_
            have hcat := HCAT.out
            ((with_reducible apply pi_take); (focus exact rfl); (focus exact rfl); (focus (intro w' u1; have sx := SX.out w' (Up.of_drew u1); have sy := SY.out w' (Up.of_drew u1); have sz := SZ.out w' (Up.of_drew u1); have so := SO.out w' (Up.of_drew u1); go_simp; try with_reducible rfl; done)); (try dsimp only [Act.put]); (try simp only [List.setIfInBounds_toArray, List.set_cons_succ, List.set_cons_zero]))
            ((with_reducible apply pi_take); (focus exact rfl); (focus exact rfl); (focus (intro w' u1; have sx := SX.out w' (Up.of_drew u1); have sy := SY.out w' (Up.of_drew u1); have sz := SZ.out w' (Up.of_drew u1); have so := SO.out w' (Up.of_drew u1); go_simp; try with_reducible rfl; done)); (try dsimp only [Act.put]); (try simp only [List.setIfInBounds_toArray, List.set_cons_succ, List.set_cons_zero]))
            ((with_reducible apply pi_take); (focus exact rfl); (focus exact rfl); (focus (intro w' u1; have sx := SX.out w' (Up.of_drew u1); have sy := SY.out w' (Up.of_drew u1); have sz := SZ.out w' (Up.of_drew u1); have so := SO.out w' (Up.of_drew u1); go_simp; try with_reducible rfl; done)); (try dsimp only [Act.put]); (try simp only [List.setIfInBounds_toArray, List.set_cons_succ, List.set_cons_zero]))
            ((with_reducible apply pi_take); (focus exact rfl); (focus exact rfl); (focus (intro w' u1; have sx := SX.out w' (Up.of_drew u1); have sy := SY.out w' (Up.of_drew u1); have sz := SZ.out w' (Up.of_drew u1); have so := SO.out w' (Up.of_drew u1); go_simp; try with_reducible rfl; done)); (try dsimp only [Act.put]); (try simp only [List.setIfInBounds_toArray, List.set_cons_succ, List.set_cons_zero]))
            ((with_reducible apply pi_take); (focus exact rfl); (focus exact rfl); (focus (intro w' u1; have sx := SX.out w' (Up.of_drew u1); have sy := SY.out w' (Up.of_drew u1); have sz := SZ.out w' (Up.of_drew u1); have so := SO.out w' (Up.of_drew u1); go_simp; try with_reducible rfl; done)); (try dsimp only [Act.put]); (try simp only [List.setIfInBounds_toArray, List.set_cons_succ, List.set_cons_zero]))
            ((with_reducible apply pi_take); (focus exact rfl); (focus exact rfl); (focus (intro w' u1; have sx := SX.out w' (Up.of_drew u1); have sy := SY.out w' (Up.of_drew u1); have sz := SZ.out w' (Up.of_drew u1); have so := SO.out w' (Up.of_drew u1); go_simp; try with_reducible rfl; done)); (try dsimp only [Act.put]); (try simp only [List.setIfInBounds_toArray, List.set_cons_succ, List.set_cons_zero]))
            ((with_reducible apply pi_take); (focus exact rfl); (focus exact rfl); (focus (intro w' u1; have sx := SX.out w' (Up.of_drew u1); have sy := SY.out w' (Up.of_drew u1); have sz := SZ.out w' (Up.of_drew u1); have so := SO.out w' (Up.of_drew u1); go_simp; try with_reducible rfl; done)); (try dsimp only [Act.put]); (try simp only [List.setIfInBounds_toArray, List.set_cons_succ, List.set_cons_zero]))
            ((with_reducible apply pi_take); (focus exact rfl); (focus exact rfl); (focus (intro w' u1; have sx := SX.out w' (Up.of_drew u1); have sy := SY.out w' (Up.of_drew u1); have sz := SZ.out w' (Up.of_drew u1); have so := SO.out w' (Up.of_drew u1); go_simp; try with_reducible rfl; done)); (try dsimp only [Act.put]); (try simp only [List.setIfInBounds_toArray, List.set_cons_succ, List.set_cons_zero]))
            ((with_reducible apply pi_take); (focus exact rfl); (focus exact rfl); (focus (intro w' u1; have sx := SX.out w' (Up.of_drew u1); have sy := SY.out w' (Up.of_drew u1); have sz := SZ.out w' (Up.of_drew u1); have so := SO.out w' (Up.of_drew u1); go_simp; try with_reducible rfl; done)); (try dsimp only [Act.put]); (try simp only [List.setIfInBounds_toArray, List.set_cons_succ, List.set_cons_zero]))
            ((with_reducible apply pi_take); (focus exact rfl); (focus exact rfl); (focus (intro w' u1; have sx := SX.out w' (Up.of_drew u1); have sy := SY.out w' (Up.of_drew u1); have sz := SZ.out w' (Up.of_drew u1); have so := SO.out w' (Up.of_drew u1); go_simp; try with_reducible rfl; done)); (try dsimp only [Act.put]); (try simp only [List.setIfInBounds_toArray, List.set_cons_succ, List.set_cons_zero]))
            ((with_reducible apply pi_take); (focus exact rfl); (focus exact rfl); (focus (intro w' u1; have sx := SX.out w' (Up.of_drew u1); have sy := SY.out w' (Up.of_drew u1); have sz := SZ.out w' (Up.of_drew u1); have so := SO.out w' (Up.of_drew u1); go_simp; try with_reducible rfl; done)); (try dsimp only [Act.put]); (try simp only [List.setIfInBounds_toArray, List.set_cons_succ, List.set_cons_zero]))
            ((with_reducible apply pi_take); (focus exact rfl); (focus exact rfl); (focus (intro w' u1; have sx := SX.out w' (Up.of_drew u1); have sy := SY.out w' (Up.of_drew u1); have sz := SZ.out w' (Up.of_drew u1); have so := SO.out w' (Up.of_drew u1); go_simp; try with_reducible rfl; done)); (try dsimp only [Act.put]); (try simp only [List.setIfInBounds_toArray, List.set_cons_succ, List.set_cons_zero]))
            ((with_reducible apply pi_take); (focus exact rfl); (focus exact rfl); (focus (intro w' u1; have sx := SX.out w' (Up.of_drew u1); have sy := SY.out w' (Up.of_drew u1); have sz := SZ.out w' (Up.of_drew u1); have so := SO.out w' (Up.of_drew u1); go_simp; try with_reducible rfl; done)); (try dsimp only [Act.put]); (try simp only [List.setIfInBounds_toArray, List.set_cons_succ, List.set_cons_zero]))
            ((with_reducible apply pi_take); (focus exact rfl); (focus exact rfl); (focus (intro w' u1; have sx := SX.out w' (Up.of_drew u1); have sy := SY.out w' (Up.of_drew u1); have sz := SZ.out w' (Up.of_drew u1); have so := SO.out w' (Up.of_drew u1); go_simp; try with_reducible rfl; done)); (try dsimp only [Act.put]); (try simp only [List.setIfInBounds_toArray, List.set_cons_succ, List.set_cons_zero]))
            ((with_reducible apply pi_take); (focus exact rfl); (focus exact rfl); (focus (intro w' u1; have sx := SX.out w' (Up.of_drew u1); have sy := SY.out w' (Up.of_drew u1); have sz := SZ.out w' (Up.of_drew u1); have so := SO.out w' (Up.of_drew u1); go_simp; try with_reducible rfl; done)); (try dsimp only [Act.put]); (try simp only [List.setIfInBounds_toArray, List.set_cons_succ, List.set_cons_zero]))
            ((with_reducible apply pi_take); (focus exact rfl); (focus exact rfl); (focus (intro w' u1; have sx := SX.out w' (Up.of_drew u1); have sy := SY.out w' (Up.of_drew u1); have sz := SZ.out w' (Up.of_drew u1); have so := SO.out w' (Up.of_drew u1); go_simp; try with_reducible rfl; done)); (try dsimp only [Act.put]); (try simp only [List.setIfInBounds_toArray, List.set_cons_succ, List.set_cons_zero]))
            ((with_reducible apply pi_take); (focus exact rfl); (focus exact rfl); (focus (intro w' u1; have sx := SX.out w' (Up.of_drew u1); have sy := SY.out w' (Up.of_drew u1); have sz := SZ.out w' (Up.of_drew u1); have so := SO.out w' (Up.of_drew u1); go_simp; try with_reducible rfl; done)); (try dsimp only [Act.put]); (try simp only [List.setIfInBounds_toArray, List.set_cons_succ, List.set_cons_zero]))
            ((with_reducible apply pi_take); (focus exact rfl); (focus exact rfl); (focus (intro w' u1; have sx := SX.out w' (Up.of_drew u1); have sy := SY.out w' (Up.of_drew u1); have sz := SZ.out w' (Up.of_drew u1); have so := SO.out w' (Up.of_drew u1); go_simp; try with_reducible rfl; done)); (try dsimp only [Act.put]); (try simp only [List.setIfInBounds_toArray, List.set_cons_succ, List.set_cons_zero]))
            ((with_reducible apply pi_take); (focus exact rfl); (focus exact rfl); (focus (intro w' u1; have sx := SX.out w' (Up.of_drew u1); have sy := SY.out w' (Up.of_drew u1); have sz := SZ.out w' (Up.of_drew u1); have so := SO.out w' (Up.of_drew u1); go_simp; try with_reducible rfl; done)); (try dsimp only [Act.put]); (try simp only [List.setIfInBounds_toArray, List.set_cons_succ, List.set_cons_zero]))
            ((with_reducible apply pi_take); (focus exact rfl); (focus exact rfl); (focus (intro w' u1; have sx := SX.out w' (Up.of_drew u1); have sy := SY.out w' (Up.of_drew u1); have sz := SZ.out w' (Up.of_drew u1); have so := SO.out w' (Up.of_drew u1); go_simp; try with_reducible rfl; done)); (try dsimp only [Act.put]); (try simp only [List.setIfInBounds_toArray, List.set_cons_succ, List.set_cons_zero]))
            refine pi_make rfl rfl (fun K hK => ?_)
            go_simp
            refine (MT.out _ (Up.of_drew (Up.refl _))).mono ?_
            rintro e wa ⟨rfl, hy⟩
            refine hK.out _ _ hy ?_
            have hua := Up.of_drew hy
            clear hK K hy
            refine pi_make rfl rfl (fun K hK => ?_)
            go_simp
            refine (MS.out _ hua).mono ?_
            rintro e wb ⟨rfl, hy⟩
            refine hK.out _ _ hy ?_
            have hub := hua.trans hy
            clear hK K hy
            rw [HAG.out]
            unfold aggM
            ((with_reducible apply pi_take); (focus exact rfl); (focus exact rfl); (focus (intro w' u1; have me := mark_eq; go_simp; try with_reducible rfl; done)); (try dsimp only [Act.put]); (try simp only [List.setIfInBounds_toArray, List.set_cons_succ, List.set_cons_zero]))
            ((with_reducible apply pi_take); (focus exact rfl); (focus exact rfl); (focus (intro w' u1; have me := mark_eq; go_simp; try with_reducible rfl; done)); (try dsimp only [Act.put]); (try simp only [List.setIfInBounds_toArray, List.set_cons_succ, List.set_cons_zero]))
            ((with_reducible apply pi_take); (focus exact rfl); (focus exact rfl); (focus (intro w' u1; have me := mark_eq; go_simp; try with_reducible rfl; done)); (try dsimp only [Act.put]); (try simp only [List.setIfInBounds_toArray, List.set_cons_succ, List.set_cons_zero]))
            refine pi_make rfl rfl (fun K hK => ?_)
            go_simp
            refine (AW.out _ (HU8.out.trans hub)).mono ?_
            rintro e wc ⟨rfl, hy⟩
            refine hK.out _ _ hy ?_
            clear hK K
            ((with_reducible apply pi_take); (focus exact rfl); (focus exact rfl); (focus (intro w' u1;  go_simp; try with_reducible rfl; done)); (try dsimp only [Act.put]); (try simp only [List.setIfInBounds_toArray, List.set_cons_succ, List.set_cons_zero]))
            ((with_reducible apply pi_take); (focus exact rfl); (focus exact rfl); (focus (intro w' u1;  go_simp; try with_reducible rfl; done)); (try dsimp only [Act.put]); (try simp only [List.setIfInBounds_toArray, List.set_cons_succ, List.set_cons_zero]))
            refine pi_done ?_
            go_wp2_with fail
            go_ret
            exact ⟨rfl, (HU8.out.trans hub).trans hy⟩

end Go.Proofs.YtipemmjbgegmfaaDoor
