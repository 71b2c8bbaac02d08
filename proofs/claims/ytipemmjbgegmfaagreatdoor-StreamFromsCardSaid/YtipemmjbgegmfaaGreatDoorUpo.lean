/- Upo: one text of Uav Uok Uog Uoh. -/
import Derived.Test.YtipemmjbgegmfaaGreatDoorUnm
import Derived.Test.YtipemmjbgegmfaaGreatDoorUpr
import Derived.OwnWalk

/- What is asked of the program's ucd; some closed cases. -/
namespace Go.Proofs.YtipemmjbgegmfaaGreatDoor
open Go.RowKit

theorem rank_at {l : List UInt8} {size N : Nat} (h : rising (keys N size l) = true) {c i : Nat} (hi : i + 1 < N) (h1 : key l size i ≤ c) (h2 : c < key l size (i + 1)) : rank l size c N = i + 1 :=
  last_uniq (rank_last h c) ⟨by omega, fun _ => by rw [Nat.add_sub_cancel]; exact h1, fun j h3 h4 => Nat.lt_of_lt_of_le h2 (key_le h _ _ h3 h4)⟩
theorem rank_zero {l : List UInt8} {size N : Nat} (h : rising (keys N size l) = true) {c : Nat} (h2 : c < key l size 0) : rank l size c N = 0 :=
  last_uniq (rank_last h c) ⟨by omega, fun h => absurd h (Nat.lt_irrefl 0), fun j _ h4 => Nat.lt_of_lt_of_le h2 (key_le h _ _ (Nat.zero_le j) h4)⟩

theorem k_cls0 : key clsS.data.toList 12 0 = 768 := by kernel_rfl
theorem k_cls1 : key clsS.data.toList 12 1 = 789 := by kernel_rfl
theorem k_cls0b : fld clsS.data.toList 12 0 5 5 = 788 := by kernel_rfl
theorem k_cls0c : fld clsS.data.toList 12 0 10 2 = 230 := by kernel_rfl
theorem k_dec0 : key decS.data.toList 16 0 = 192 := by kernel_rfl
theorem k_dec34 : key decS.data.toList 16 34 = 233 := by kernel_rfl
theorem k_dec34a : fld decS.data.toList 16 34 5 5 = 101 := by kernel_rfl
theorem k_dec34b : fld decS.data.toList 16 34 10 5 = 769 := by kernel_rfl
theorem k_dec345 : key decS.data.toList 16 345 = 2392 := by kernel_rfl
theorem k_dec345c : decS.data.toList[345 * 16 + 15]? = some 45 := by kernel_rfl
theorem k_dec352 : key decS.data.toList 16 352 = 2399 := by kernel_rfl
theorem k_dec353 : key decS.data.toList 16 353 = 2507 := by kernel_rfl
theorem k_par219 : key parS.data.toList 15 219 = 101 := by kernel_rfl
theorem k_par219b : fld parS.data.toList 15 219 5 5 = 769 := by kernel_rfl
theorem k_par219c : fld parS.data.toList 15 219 10 5 = 233 := by kernel_rfl
theorem k_par648 : fld parS.data.toList 15 648 5 5 = 2494 := by kernel_rfl

/- Lemmas of any character (a closed one sends the kernel through the tables). -/
theorem cls_of {c i : Nat} (hi : i + 1 < 388) (h1 : key clsL 12 i ≤ c) (h2 : c < key clsL 12 (i + 1)) (h3 : c ≤ fld clsL 12 i 5 5) : clsOf c = fld clsL 12 i 10 2 := by
  have h := rank_at cls_rising hi h1 h2
  unfold clsOf
  unfold clsL at *
  rw [h, if_neg (Nat.succ_ne_zero i), Nat.add_sub_cancel, if_neg (Nat.not_lt.2 h3)]
theorem cls_none {c : Nat} (h1 : c < key clsL 12 0) : clsOf c = 0 := by
  have h := rank_zero cls_rising h1
  unfold clsOf
  unfold clsL at *
  rw [h, if_pos rfl]
theorem row_none {c i : Nat} (hi : i + 1 < 2061) (h1 : key decL 16 i < c) (h2 : c < key decL 16 (i + 1)) : rowOf c = 0 := by
  have h := rank_at dec_rising hi (Nat.le_of_lt h1) h2
  unfold rowOf
  unfold decL at *
  rw [h, Nat.add_sub_cancel, if_pos (.inr (Nat.ne_of_lt h1))]
theorem row_less {c : Nat} (h1 : c < key decL 16 0) : rowOf c = 0 := by
  have h := rank_zero dec_rising h1
  unfold rowOf
  unfold decL at *
  rw [h, if_pos (.inl rfl)]
theorem quick_no {c k : Nat} (hr : rowOf c = k + 1) (hb : decL[k * 16 + 15]? = some 45) : quickOf c = 1 := by
  obtain ⟨_, _, h3⟩ := row_dec hr
  unfold quickOf
  rw [h3, hr, hb, if_pos ⟨Nat.succ_ne_zero k, by decide⟩]
theorem sec_of {c i : Nat} (hi : i < 941) (h : fld parL 15 i 5 5 = c) : secOf c = true := by
  unfold secOf
  rw [(isSec_iff c).2 ⟨i, hi, h⟩, Bool.or_true]
theorem sec_none {c : Nat} (h : c < 768) : secOf c = false := by
  have h1 : isSec c = false := by
    cases h1 : isSec c with
    | false => rfl
    | true => have := isSec_range c h1; omega
  have h2 : hanV c = false := by
    unfold hanV
    rw [decide_eq_false (show ¬ 4449 ≤ c by omega), decide_eq_false (show ¬ 4520 ≤ c by omega)]
    rfl
  unfold secOf
  rw [h1, h2]; rfl
theorem no_of {c : Nat} (hr : rowOf c = 0) (hs : secOf c = true) : startOf c = false := by
  unfold startOf quickOf
  rw [hr, hs, if_neg (fun h => h.1 rfl), if_pos rfl]
  simp
theorem yes_of {c : Nat} (hr : rowOf c = 0) (hc : clsOf c = 0) (hs : secOf c = false) : startOf c = true := by
  unfold startOf quickOf
  rw [hr, hs, hc, if_neg (fun h => h.1 rfl), if_neg Bool.false_ne_true]
  rfl
theorem decOk_of {c k : Nat} (hr : rowOf c = k + 1) : decOk c = true := by
  unfold decOk
  rw [hr]
  exact decide_eq_true (Nat.succ_ne_zero k)
theorem leq {x y z : Nat} (h : x = y) (h2 : y ≤ z) : x ≤ z := h ▸ h2
theorem geq {x y z : Nat} (h : x = y) (h2 : z ≤ y) : z ≤ x := h ▸ h2

theorem v_cls : clsOf 769 = 230 := (cls_of (i := 0) (by decide) (leq k_cls0 (by decide)) (geq k_cls1 (by decide)) (geq k_cls0b (by decide))).trans k_cls0c
theorem v_row : rowOf 233 = 34 + 1 := row_of_key (by decide) k_dec34
theorem v_decA : decA 233 = 101 := (row_dec v_row).1.trans k_dec34a
theorem v_decB : decB 233 = 769 := (row_dec v_row).2.1.trans k_dec34b
theorem v_ok : decOk 233 = true := decOk_of v_row
theorem v_pair : PairP parL 101 769 233 true := .inl ⟨rfl, 219, by decide, k_par219, k_par219b, k_par219c⟩
theorem v_quick : quickOf 2392 = 1 := quick_no (row_of_key (j := 345) (by decide) k_dec345) k_dec345c
theorem v_no : startOf 2494 = false := no_of (row_none (i := 352) (by decide) (leq (congrArg Nat.succ k_dec352) (by decide)) (geq k_dec353 (by decide))) (sec_of (i := 648) (by decide) k_par648)
theorem v_yes : startOf 65 = true := yes_of (row_less (geq k_dec0 (by decide))) (cls_none (geq k_cls0 (by decide))) (sec_none (by decide))

end Go.Proofs.YtipemmjbgegmfaaGreatDoor

/- What the program's seven functions answer. -/
namespace Go.Proofs.YtipemmjbgegmfaaGreatDoor
open Go.RowKit

theorem par_sz2 : parS.size = 14115 := by rw [size_of]; exact par_size

theorem class_find (c b : Nat) (w : World) (hc : At w b (.int .u32 (c : Int))) :
    Calls Tryz.prog 73 #[.string clsS, .int .i64 12, .func (.func 74) #[] #[.pointer (some ⟨b, 0, none⟩)]] w fun e w' =>
      ((∃ r, r < 388 ∧ e = .returned (.tuple #[.string (rowS clsS 12 r), .bool true]) ∧ clsOf c = fld clsS.data.toList 12 r 10 2) ∨ (e = .returned (.tuple #[.string ⟨#[]⟩, .bool false]) ∧ clsOf c = 0)) ∧ Up w w' := by
  have eg : ∀ args w, (callFunc 74 args).run Tryz.prog w = .ok (.enter 74 args) w := enters_of Tryz.func74 (by kernel_rfl) rfl
  have hf := find_prog clsS 12 388 74 #[.pointer (some ⟨b, 0, none⟩)] eg (by rw [cls_sz]; decide) (by rw [cls_sz]; rfl) (by decide) (by rw [cls_sz]; decide) (by decide)
    (fun i => inR (key clsS.data.toList 12 i) (fld clsS.data.toList 12 i 5 5) c) w
    (Lib.hid fun i hi w1 u => class_step (rowS clsS 12 i) (key clsS.data.toList 12 i) (fld clsS.data.toList 12 i 5 5) c b
      (Lib.hid (by rw [key_fld]; exact row_chr clsS (k := 0) cls_hex hi (by decide) (by decide) (by decide) (by rw [cls_sz]; decide)))
      (Lib.hid (row_chr clsS (k := 1) cls_hex hi (by decide) (by decide) (by decide) (by rw [cls_sz]; decide))) w1 (hc.up u))
    (Lib.hid (cls_mono c))
  refine Calls.mono hf ?_
  rintro e w' ⟨r, ok, rfl, hP, hu⟩
  refine ⟨?_, hu⟩
  rcases cls_found hP with ⟨rfl, h1, h2⟩ | ⟨rfl, h2⟩
  · exact .inl ⟨r, h1, rfl, h2⟩
  · exact .inr ⟨rfl, h2⟩

theorem dec_find (c b : Nat) (w : World) (hc : At w b (.int .u32 (c : Int))) :
    Calls Tryz.prog 73 #[.string decS, .int .i64 16, .func (.func 100) #[] #[.pointer (some ⟨b, 0, none⟩)]] w fun e w' =>
      ((∃ r, r < 2061 ∧ e = .returned (.tuple #[.string (rowS decS 16 r), .bool true]) ∧ rowOf c = r + 1) ∨ (e = .returned (.tuple #[.string ⟨#[]⟩, .bool false]) ∧ rowOf c = 0)) ∧ Up w w' := by
  have eg : ∀ args w, (callFunc 100 args).run Tryz.prog w = .ok (.enter 100 args) w := enters_of Tryz.func100 (by kernel_rfl) rfl
  have hf := find_prog decS 16 2061 100 #[.pointer (some ⟨b, 0, none⟩)] eg (by rw [dec_sz]; decide) (by rw [dec_sz]; rfl) (by decide) (by rw [dec_sz]; decide) (by decide)
    (fun i => cmp3 c (key decS.data.toList 16 i)) w
    (Lib.hid fun i hi w1 u => decomp_step (rowS decS 16 i) (key decS.data.toList 16 i) c b
      (Lib.hid (by rw [key_fld]; exact row_chr decS (k := 0) dec_hex hi (by decide) (by decide) (by decide) (by rw [dec_sz]; decide))) w1 (hc.up u))
    (Lib.hid (dec_mono c))
  refine Calls.mono hf ?_
  rintro e w' ⟨r, ok, rfl, hP, hu⟩
  refine ⟨?_, hu⟩
  rcases dec_found hP with ⟨rfl, h1, h2⟩ | ⟨rfl, h2⟩
  · exact .inl ⟨r, h1, rfl, h2⟩
  · exact .inr ⟨rfl, h2⟩

theorem par_find (a b ba bb : Nat) (w : World) (ha : At w ba (.int .u32 (a : Int))) (hb : At w bb (.int .u32 (b : Int))) :
    Calls Tryz.prog 73 #[.string parS, .int .i64 15, .func (.func 115) #[] #[.pointer (some ⟨ba, 0, none⟩), .pointer (some ⟨bb, 0, none⟩)]] w fun e w' =>
      ((∃ r, r < 941 ∧ e = .returned (.tuple #[.string (rowS parS 15 r), .bool true]) ∧ PairP parL a b (fld parS.data.toList 15 r 10 5) true) ∨ (e = .returned (.tuple #[.string ⟨#[]⟩, .bool false]) ∧ PairP parL a b 0 false)) ∧ Up w w' := by
  have eg : ∀ args w, (callFunc 115 args).run Tryz.prog w = .ok (.enter 115 args) w := enters_of Tryz.func115 (by kernel_rfl) rfl
  have hf := find_prog parS 15 941 115 #[.pointer (some ⟨ba, 0, none⟩), .pointer (some ⟨bb, 0, none⟩)] eg (by rw [par_sz2]; decide) (by rw [par_sz2]; rfl) (by decide) (by rw [par_sz2]; decide) (by decide)
    (fun i => cmp2 a b (key parS.data.toList 15 i) (fld parS.data.toList 15 i 5 5)) w
    (Lib.hid fun i hi w1 u => pair_step (rowS parS 15 i) (key parS.data.toList 15 i) (fld parS.data.toList 15 i 5 5) a b ba bb
      (Lib.hid (by rw [key_fld]; exact row_chr parS (k := 0) par_hex hi (by decide) (by decide) (by decide) (by rw [par_sz2]; decide)))
      (Lib.hid (row_chr parS (k := 1) par_hex hi (by decide) (by decide) (by decide) (by rw [par_sz2]; decide))) w1 (ha.up u) (hb.up u))
    (Lib.hid (par_mono a b))
  refine Calls.mono hf ?_
  rintro e w' ⟨r, ok, rfl, hP, hu⟩
  refine ⟨?_, hu⟩
  rcases par_found hP with ⟨rfl, h1, h2⟩ | ⟨rfl, h2⟩
  · exact .inl ⟨r, h1, rfl, h2⟩
  · exact .inr ⟨rfl, h2⟩

end Go.Proofs.YtipemmjbgegmfaaGreatDoor

/- The program's Class, decomp, Decomp, Pair. -/
namespace Go.Proofs.YtipemmjbgegmfaaGreatDoor
open Go.RowKit

theorem class_tail (r : Nat) (hr : r < 388) : ∃ S : ByteArray, (∀ w, (Instr.slice 9 (.string (rowS clsS 12 r)) (some (.int .i64 10)) none none).run Tryz.prog w = .ok (.string S) w) ∧
    ∀ w, Calls Tryz.prog 76 #[.string S] w fun e w' => e = .returned (.int .u32 (fld clsS.data.toList 12 r 10 2 : Int)) ∧ w = w' := by
  have hs : (rowS clsS 12 r).size = 12 := rowS_size clsS 12 r (by rw [cls_sz]; omega)
  obtain ⟨S, h1, h2, h3⟩ := cut_tail (rowS clsS 12 r) 10 (by decide) (by rw [hs]; decide)
  have e : S.data.toList = (clsS.data.toList.drop (r * 12 + 10)).take 2 := by
    rw [h1, ← row_fld clsS 12 r 10 2 (by decide), List.take_of_length_le]
    · rfl
    · rw [List.length_drop, ← size_of, hs]
      decide
  refine ⟨S, h3, fun w => ?_⟩
  have hn := number_prog S (by rw [h2, hs]; decide) (Lib.hid (by rw [e]; exact hexes_fld cls_hex hr (by decide))) w
  rw [e] at hn
  exact hn

set_option maxRecDepth 100000 in
theorem class_prog (c : Nat) (w : World) : Calls Tryz.prog 63 #[.int .u32 (c : Int)] w fun e w' => e = .returned (.int .i64 (clsOf c : Int)) ∧ Up w w' := by
  have HF := Lib.hid (class_find c w.heap.size (w.alloc (.cells #[.int .u32 (c : Int)] 28)) (At.new _ _ _))
  have HT := Lib.hid class_tail
  have hu0 : Up w (w.alloc (.cells #[.int .u32 (c : Int)] 28)) := (Up.refl w).alloc _
  have HB := Lib.hid (fun r => fld_le clsS.data.toList 12 r 10 2 (by decide))
  generalize clsOf c = v at *
  go_enter Tryz.func63, Tryz.ntmps63
  conv in (occs := *) (Value.string _) => all_goals (first | change Value.string clsS | skip)
  generalize clsS = S at *
  go_wp2_with fail
  refine HF.out.mono ?_
  rintro e w1 ⟨⟨r, hr, rfl, hv⟩ | ⟨rfl, hv⟩, hu⟩
  · obtain ⟨R, h1, h2⟩ := HT.out r hr
    have hb := HB.out r
    have hu1 := hu0.trans hu
    rw [← hv] at hb
    simp only [← hv] at h2
    clear HF HT HB hu0 hu hv
    generalize rowS S 12 r = Q at *
    go_wp2_with fail
    refine (h2 _).mono ?_
    rintro e w2 ⟨rfl, rfl⟩
    go_wp2_with fail
    go_ret
    exact ⟨rfl, hu1⟩
  · have hu1 := hu0.trans hu
    subst hv
    clear HF HT HB hu0 hu
    go_wp2_with fail
    go_ret
    exact ⟨rfl, hu1⟩

set_option maxRecDepth 100000 in
theorem dec_prog (c : Nat) (w : World) : Calls Tryz.prog 77 #[.int .u32 (c : Int)] w fun e w' =>
    ((∃ r, r < 2061 ∧ e = .returned (.tuple #[.string (rowS decS 16 r), .bool true]) ∧ rowOf c = r + 1) ∨ (e = .returned (.tuple #[.string ⟨#[]⟩, .bool false]) ∧ rowOf c = 0)) ∧ Up w w' := by
  have HF := Lib.hid (dec_find c w.heap.size (w.alloc (.cells #[.int .u32 (c : Int)] 28)) (At.new _ _ _))
  have hu0 : Up w (w.alloc (.cells #[.int .u32 (c : Int)] 28)) := (Up.refl w).alloc _
  generalize rowOf c = v at *
  go_enter Tryz.func77, Tryz.ntmps77
  conv in (occs := *) (Value.string _) => all_goals (first | change Value.string decS | skip)
  generalize decS = S at *
  go_wp2_with fail
  refine HF.out.mono ?_
  rintro e w1 ⟨⟨r, hr, rfl, hv⟩ | ⟨rfl, hv⟩, hu⟩
  · have hu1 := hu0.trans hu
    have HV := Lib.hid hv
    clear HF hu0 hu hv
    generalize hQ : rowS S 16 r = Q at *
    have HQ := Lib.hid hQ
    clear hQ
    go_wp2_with fail
    go_ret2
    exact ⟨.inl ⟨r, hr, by rw [HQ.out]; rfl, HV.out⟩, hu1⟩
  · have hu1 := hu0.trans hu
    have HV := Lib.hid hv
    clear HF hu0 hu hv
    go_wp2_with fail
    go_ret2
    exact ⟨.inr ⟨rfl, HV.out⟩, hu1⟩

set_option maxRecDepth 100000 in
theorem decomp_prog (c : Nat) (w : World) : Calls Tryz.prog 124 #[.int .u32 (c : Int)] w fun e w' => e = .returned (.tuple #[.int .u32 (decA c : Int), .int .u32 (decB c : Int), .bool (decOk c)]) ∧ Up w w' := by
  have HF := Lib.hid (dec_prog c w)
  have HR := Lib.hid (fun r (h : rowOf c = r + 1) => (row_dec h))
  have HA : decOk c = decide (rowOf c ≠ 0) := rfl
  have HN : Hid (rowOf c = 0 → decA c = 0 ∧ decB c = 0) := Lib.hid (fun h => by unfold decA decB; rw [h]; exact ⟨rfl, rfl⟩)
  have H1 := Lib.hid (fun r (hr : r < 2061) => row_chr decS (i := r) (k := 1) dec_hex hr (by decide) (by decide) (by decide) (by rw [dec_sz]; decide))
  have H2 := Lib.hid (fun r (hr : r < 2061) => row_chr decS (i := r) (k := 2) dec_hex hr (by decide) (by decide) (by decide) (by rw [dec_sz]; decide))
  rw [HA]
  clear HA
  unfold decL at HR
  generalize decA c = x at *
  generalize decB c = y at *
  generalize rowOf c = v at *
  generalize decS = S at *
  go_enter Tryz.func124, Tryz.ntmps124
  go_wp2_with fail
  refine HF.out.mono ?_
  rintro e w1 ⟨⟨r, hr, rfl, hv⟩ | ⟨rfl, hv⟩, hu⟩
  · obtain ⟨ha, hb, _⟩ := HR.out r hv
    have h1 := H1.out r hr
    have h2 := H2.out r hr
    rw [← ha] at h1
    rw [← hb] at h2
    subst hv
    clear ha hb HR HF HN H1 H2
    unfold Chr at h1 h2
    generalize rowS S 16 r = Q at *
    go_wp2_with fail
    refine (h1 _).mono ?_
    rintro e w2 ⟨rfl, rfl⟩
    go_wp2_with fail
    refine (h2 _).mono ?_
    rintro e w3 ⟨rfl, rfl⟩
    go_wp2_with fail
    go_ret3
    exact ⟨by simp, hu⟩
  · obtain ⟨ha, hb⟩ := HN.out hv
    subst ha hb hv
    clear HR HF HN H1 H2
    go_wp2_with fail
    go_ret3
    exact ⟨by simp, hu⟩

set_option maxRecDepth 100000 in
theorem pair_prog (a b : Nat) (w : World) : Calls Tryz.prog 95 #[.int .u32 (a : Int), .int .u32 (b : Int)] w fun e w' => ∃ (x : Nat) (ok : Bool), e = .returned (.tuple #[.int .u32 (x : Int), .bool ok]) ∧ PairP parL a b x ok ∧ Up w w' := by
  obtain ⟨W, hW⟩ : ∃ W, (w.alloc (.cells #[.int .u32 (a : Int)] 28)).alloc (.cells #[.int .u32 (b : Int)] 28) = W := ⟨_, rfl⟩
  have A1 : At W w.heap.size (.int .u32 (a : Int)) := by rw [← hW]; exact (At.new _ _ _).alloc _
  have A2 : At W (w.heap.size + 1) (.int .u32 (b : Int)) := by
    rw [← hW]
    have := At.new (w.alloc (.cells #[.int .u32 (a : Int)] 28)) (.int .u32 (b : Int)) 28
    rwa [show (w.alloc (.cells #[.int .u32 (a : Int)] 28)).heap.size = w.heap.size + 1 from by simp] at this
  have hu0 : Up w W := by rw [← hW]; exact ((Up.refl w).alloc _).alloc _
  have HF := Lib.hid (par_find a b w.heap.size (w.heap.size + 1) W A1 A2)
  have H2 := Lib.hid (fun r (hr : r < 941) => row_chr parS (i := r) (k := 2) par_hex hr (by decide) (by decide) (by decide) (by rw [par_sz2]; decide))
  clear A1 A2
  unfold parL at *
  have HW := Lib.hid hW
  clear hW
  go_enter Tryz.func95, Tryz.ntmps95
  conv in (occs := *) (Value.string _) => all_goals (first | change Value.string parS | skip)
  generalize parS = S at *
  go_wp2_with fail
  rw [HW.out]
  clear HW
  refine HF.out.mono ?_
  rintro e w1 ⟨⟨r, hr, rfl, hv⟩ | ⟨rfl, hv⟩, hu⟩
  · have hu1 := hu0.trans hu
    have HV := Lib.hid hv
    have h2 := H2.out r hr
    unfold Chr at h2
    clear HF hu0 hu hv H2
    generalize rowS S 15 r = Q at *
    generalize fld S.data.toList 15 r (5 * 2) 5 = y at *
    go_wp2_with fail
    refine (h2 _).mono ?_
    rintro e w3 ⟨rfl, rfl⟩
    go_wp2_with fail
    go_ret2
    exact ⟨y, true, rfl, HV.out, hu1⟩
  · have hu1 := hu0.trans hu
    have HV := Lib.hid hv
    clear HF hu0 hu hv H2
    go_wp2_with fail
    go_ret2
    exact ⟨0, false, rfl, HV.out, hu1⟩

end Go.Proofs.YtipemmjbgegmfaaGreatDoor

/- The program's Composes, Second, Quickly, Starts; all seven. -/
namespace Go.Proofs.YtipemmjbgegmfaaGreatDoor
open Go.RowKit

theorem row_last (r : Nat) (hr : r < 2061) : ∃ y : UInt8, decS.data.toList[r * 16 + 15]? = some y ∧ ∀ w, (Instr.index 9 (.string (rowS decS 16 r)) (.int .i64 15)).run Tryz.prog w = .ok (.int .u8 (y.toNat : Int)) w := by
  have hs : (rowS decS 16 r).size = 16 := rowS_size decS 16 r (by rw [dec_sz]; omega)
  have hl : (rowS decS 16 r).data.toList.length = 16 := by rw [← size_of, hs]
  have e : decS.data.toList[r * 16 + 15]? = some (rowS decS 16 r)[15] := by
    have h1 : (rowS decS 16 r).data.toList[15]? = decS.data.toList[r * 16 + 15]? := by
      rw [rowS_list, List.getElem?_take_of_lt (by decide), List.getElem?_drop]
    rw [← h1, List.getElem?_eq_getElem (by rw [hl]; decide)]
    rfl
  refine ⟨_, e, fun w => ?_⟩
  rw [run_index_string w 9 (rowS decS 16 r) .i64 15 Tryz.underlying9, dif_pos ⟨by decide, by rw [hs]; decide⟩]
  rfl

theorem is_c (y : UInt8) : decide (some y = some 99) = ((y.toNat : Int) == 99) := by
  rw [Bool.eq_iff_iff]
  simp only [decide_eq_true_eq, Option.some.injEq, beq_iff_eq]
  constructor
  · rintro rfl; rfl
  · intro h; exact UInt8.toNat_inj.1 (by show y.toNat = 99; omega)

theorem sec_cut (k : Nat) (hk : k < 941) : ∃ S : ByteArray, (∀ w, (Instr.slice 9 (.string parS) (some (.int .i64 ((k : Int) * 15 + 5))) (some (.int .i64 ((k : Int) * 15 + 5 + 5))) none).run Tryz.prog w = .ok (.string S) w) ∧
    ∀ (c : Nat) w, Calls Tryz.prog 102 #[.string S, .int .u32 (c : Int)] w fun e w' => e = .returned (.bool (decide (fld parS.data.toList 15 k 5 5 = c))) ∧ w = w' := by
  obtain ⟨S, h1, h2, h3⟩ := cut_str parS ((k : Int) * 15 + 5) ((k : Int) * 15 + 5 + 5) (by omega) (by omega) (by rw [par_sz2]; omega)
  have e1 : ((k : Int) * 15 + 5).toNat = k * 15 + 5 := by omega
  have e2 : ((k : Int) * 15 + 5 + 5).toNat = k * 15 + 5 + 5 := by omega
  rw [e1, e2, Nat.add_sub_cancel_left] at h1
  rw [e1, e2, Nat.add_sub_cancel_left] at h2
  refine ⟨S, h3, fun c w => ?_⟩
  have hn := spells_prog S (by omega) (Lib.hid (by rw [h1]; exact hexes_fld par_hex hk (by decide))) c w
  rw [h1] at hn
  exact hn

set_option maxRecDepth 100000 in
set_option maxHeartbeats 2000000 in
theorem second_prog (c : Nat) (w : World) : Calls Tryz.prog 78 #[.int .u32 (c : Int)] w fun e w' => e = .returned (.bool (secOf c)) ∧ Up w w' := by
  have hiff := isSec_iff c
  have hrg := isSec_range c
  unfold secOf
  obtain ⟨s, hs⟩ : ∃ s, isSec c = s := ⟨_, rfl⟩
  rw [hs] at hiff hrg ⊢
  clear hs
  unfold hanV
  unfold parL at hiff
  have Hiff := Lib.hid hiff
  have Hrg := Lib.hid hrg
  have N1 := Lib.hid sec_cut
  clear hiff hrg
  by_cases h1 : 4449 ≤ c ∧ c ≤ 4469
  · obtain ⟨h1, h2⟩ := h1
    clear N1 Hrg Hiff
    go_enter Tryz.func78, Tryz.ntmps78
    conv in (occs := *) (Value.string _) => all_goals change Value.string parS
    generalize parS = S at *
    go_wp2
    go_ret
    exact ⟨by simp, Up.refl _⟩
  · have hA : (decide (4449 ≤ c) && decide (c ≤ 4469)) = false := by rw [Bool.and_eq_false_iff]; simp only [decide_eq_false_iff_not]; omega
    rw [hA]
    clear hA
    by_cases h2 : 4520 ≤ c ∧ c ≤ 4546
    · obtain ⟨h2, h3⟩ := h2
      have h4 : 4469 < c := by omega
      have h5 : 4449 ≤ c := by omega
      clear N1 Hrg Hiff h1
      go_enter Tryz.func78, Tryz.ntmps78
      conv in (occs := *) (Value.string _) => all_goals change Value.string parS
      generalize parS = S at *
      go_wp2
      go_ret
      exact ⟨by simp [h2, h3], Up.refl _⟩
    · have hB : (decide (4520 ≤ c) && decide (c ≤ 4546)) = false := by rw [Bool.and_eq_false_iff]; simp only [decide_eq_false_iff_not]; omega
      rw [hB]
      clear hB
      have e : (false || false || s) = s := rfl
      rw [e]
      clear e
      by_cases h3 : c < 768
      · cases s with
        | true => have := Hrg.out rfl; omega
        | false =>
          have h4 : c < 4449 := by omega
          have h5 : c < 4520 := by omega
          clear N1 Hrg Hiff h1 h2
          go_enter Tryz.func78, Tryz.ntmps78
          conv in (occs := *) (Value.string _) => all_goals change Value.string parS
          generalize parS = S at *
          go_wp2
          go_ret
          exact ⟨rfl, Up.refl _⟩
      · clear Hrg
        have hlo : c < 4449 ∨ (4449 ≤ c ∧ 4469 < c ∧ c < 4520) ∨ (4449 ≤ c ∧ 4469 < c ∧ 4520 ≤ c ∧ 4546 < c) := by omega
        clear h1 h2
        have h3' : 768 ≤ c := by omega
        clear h3
        have hlo' : (c < 4449 ∧ c < 4520) ∨ (4449 ≤ c ∧ 4469 < c ∧ c < 4520) ∨ (4449 ≤ c ∧ 4469 < c ∧ 4520 ≤ c ∧ 4546 < c) := by omega
        clear hlo
        rcases hlo' with ⟨g1, g2⟩ | ⟨g1, g2, g3⟩ | ⟨g1, g2, g3, g4⟩
        all_goals
          go_enter Tryz.func78, Tryz.ntmps78
          conv in (occs := *) (Value.string _) => all_goals change Value.string parS
          generalize parS = S at *
          go_wp2
          go_loop [21] (fun i => ∃ k : Nat, k ≤ 941 ∧ i = .int .i64 (k : Int) ∧ Hid (∀ j, j < k → fld S.data.toList 15 j 5 5 ≠ c)) (fun i => 941 - (intOf i).toNat)
          case atStart => exact ⟨0, by omega, rfl, Lib.hid (fun j h => by omega)⟩
          case round =>
            obtain ⟨k, hk, rfl, hno⟩ := hrel
            by_cases hlt : k < 941
            · obtain ⟨R, m1, m2⟩ := N1.out k hlt
              have m3 := m2 c w
              obtain ⟨x, hx⟩ : ∃ x, fld S.data.toList 15 k 5 5 = x := ⟨_, rfl⟩
              rw [hx] at m3
              have HX := Lib.hid hx
              clear hx m2
              by_cases hxc : x = c
              · have hs : s = true := Hiff.out.2 ⟨k, hlt, HX.out.trans hxc⟩
                subst hs
                rw [decide_eq_true hxc] at m3
                clear hxc
                go_wp2_with fail
                refine m3.mono ?_
                rintro e w1 ⟨rfl, rfl⟩
                go_wp2_with fail
                go_ret
                exact ⟨rfl, Up.refl _⟩
              · rw [decide_eq_false hxc] at m3
                have HXC := Lib.hid hxc
                clear hxc
                go_wp2_with fail
                refine m3.mono ?_
                rintro e w1 ⟨rfl, rfl⟩
                go_wp2_with fail
                go_round
                case rel => exact ⟨k + 1, by omega, by go_num, Lib.hid (fun j hj => by
                  by_cases e : j = k
                  · subst e; rw [HX.out]; exact HXC.out
                  · exact hno.out j (by omega))⟩
                case measure => simp [intOf]; omega
            · obtain rfl : k = 941 := by omega
              have hs : s = false := by
                cases s with
                | false => rfl
                | true => obtain ⟨i, hi, he⟩ := Hiff.out.1 rfl; exact absurd he (hno.out i hi)
              subst hs
              go_wp2_with fail
              go_ret
              exact ⟨rfl, Up.refl _⟩

set_option maxRecDepth 100000 in
theorem quickly_prog (c : Nat) (w : World) : Calls Tryz.prog 64 #[.int .u32 (c : Int)] w fun e w' => e = .returned (.int .u8 (quickOf c : Int)) ∧ Up w w' := by
  have HF := Lib.hid (dec_prog c w)
  have HS := Lib.hid (fun w => second_prog c w)
  have HR := Lib.hid (fun r (h : rowOf c = r + 1) => (row_dec h).2.2)
  have HQ : quickOf c = if rowOf c ≠ 0 ∧ cmpOf c = false then 1 else if secOf c = true then 2 else 0 := rfl
  have HL := Lib.hid row_last
  rw [HQ]
  clear HQ
  unfold decL at HR
  generalize secOf c = s at *
  generalize cmpOf c = x at *
  generalize rowOf c = v at *
  generalize decS = S at *
  obtain ⟨q, hq⟩ : ∃ q, (if v ≠ 0 ∧ x = false then 1 else if s = true then 2 else 0) = q := ⟨_, rfl⟩
  rw [hq]
  have HQ := Lib.hid hq
  clear hq
  go_enter Tryz.func64, Tryz.ntmps64
  go_wp2_with fail
  refine HF.out.mono ?_
  rintro e w1 ⟨⟨r, hr, rfl, hv⟩ | ⟨rfl, hv⟩, hu⟩
  · obtain ⟨y, h1, h2⟩ := HL.out r hr
    have h3 := HR.out r hv
    rw [h1, is_c] at h3
    subst hv
    clear HR HF HL h1
    generalize rowS S 16 r = Q at *
    cases x with
    | false =>
      have h4 : ((y.toNat : Int) != 99) = true := by rw [bne, ← h3]; rfl
      have hq : q = 1 := by rw [← HQ.out, if_pos ⟨Nat.succ_ne_zero r, rfl⟩]
      subst hq
      clear h3 HQ
      go_wp2_with fail
      go_ret
      exact ⟨rfl, hu⟩
    | true =>
      have h4 : ((y.toNat : Int) != 99) = false := by rw [bne, ← h3]; rfl
      have hq : q = if s = true then 2 else 0 := by rw [← HQ.out, if_neg (fun h => Bool.noConfusion h.2)]
      clear h3 HQ
      cases s with
      | true =>
        obtain rfl : q = 2 := hq
        go_wp2_with fail
        refine (HS.out _).mono ?_
        rintro e w2 ⟨rfl, hu2⟩
        go_wp2_with fail
        go_ret
        exact ⟨rfl, hu.trans hu2⟩
      | false =>
        obtain rfl : q = 0 := hq
        go_wp2_with fail
        refine (HS.out _).mono ?_
        rintro e w2 ⟨rfl, hu2⟩
        go_wp2_with fail
        go_ret
        exact ⟨rfl, hu.trans hu2⟩
  · have hq : q = if s = true then 2 else 0 := by rw [← HQ.out, if_neg (fun h => h.1 hv)]
    subst hv
    clear HR HF HL HQ
    cases s with
    | true =>
      obtain rfl : q = 2 := hq
      go_wp2_with fail
      refine (HS.out _).mono ?_
      rintro e w2 ⟨rfl, hu2⟩
      go_wp2_with fail
      go_ret
      exact ⟨rfl, hu.trans hu2⟩
    | false =>
      obtain rfl : q = 0 := hq
      go_wp2_with fail
      refine (HS.out _).mono ?_
      rintro e w2 ⟨rfl, hu2⟩
      go_wp2_with fail
      go_ret
      exact ⟨rfl, hu.trans hu2⟩

set_option maxRecDepth 100000 in
theorem starts_prog (c : Nat) (w : World) : Calls Tryz.prog 47 #[.int .u32 (c : Int)] w fun e w' => e = .returned (.bool (startOf c)) ∧ Up w w' := by
  have hcl := fun w => class_prog c w
  have hqu := fun w => quickly_prog c w
  unfold startOf
  generalize clsOf c = x at *
  generalize quickOf c = q at *
  by_cases hx : x = 0
  · subst hx
    by_cases hq : q = 0
    · subst hq
      go_enter Tryz.func47, Tryz.ntmps47
      go_wp2_with fail
      refine (hcl _).mono ?_
      rintro e w1 ⟨rfl, hu⟩
      go_wp2_with fail
      refine (hqu _).mono ?_
      rintro e w2 ⟨rfl, hu2⟩
      go_wp2_with fail
      go_ret
      exact ⟨rfl, hu.trans hu2⟩
    · have hne : ((q : Int) == 0) = false := by simp; omega
      go_enter Tryz.func47, Tryz.ntmps47
      go_wp2_with fail
      refine (hcl _).mono ?_
      rintro e w1 ⟨rfl, hu⟩
      go_wp2_with fail
      refine (hqu _).mono ?_
      rintro e w2 ⟨rfl, hu2⟩
      go_wp2_with fail
      go_ret
      exact ⟨ret_val (by simp [hq]), hu.trans hu2⟩
  · have hne : ((x : Int) == 0) = false := by simp; omega
    go_enter Tryz.func47, Tryz.ntmps47
    go_wp2_with fail
    refine (hcl _).mono ?_
    rintro e w1 ⟨rfl, hu⟩
    go_wp2_with fail
    go_ret
    exact ⟨ret_val (by simp [hx]), hu⟩

end Go.Proofs.YtipemmjbgegmfaaGreatDoor
