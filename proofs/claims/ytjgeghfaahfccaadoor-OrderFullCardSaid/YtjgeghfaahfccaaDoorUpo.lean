/- Upo: one text of Uav Uok Uog Uoh. -/
import Derived.Test.YtjgeghfaahfccaaDoorUnm
import Derived.Test.YtjgeghfaahfccaaDoorUpr
import Derived.OwnWalk

/- What is asked of the program's ucd; some closed cases. -/
namespace Go.Proofs.YtjgeghfaahfccaaDoor
open Go.RowKit

theorem rank_at {l : List UInt8} {size N : Nat} (h : rising (keys N size l) = true) {c i : Nat} (hi : i + 1 < N) (h1 : key l size i ≤ c) (h2 : c < key l size (i + 1)) : rank l size c N = i + 1 :=
  last_uniq (rank_last h c) ⟨by omega, fun _ => by rw [Nat.add_sub_cancel]; exact h1, fun j h3 h4 => Nat.lt_of_lt_of_le h2 (key_le h _ _ h3 h4)⟩
theorem rank_zero {l : List UInt8} {size N : Nat} (h : rising (keys N size l) = true) {c : Nat} (h2 : c < key l size 0) : rank l size c N = 0 :=
  last_uniq (rank_last h c) ⟨by omega, fun h => absurd h (Nat.lt_irrefl 0), fun j _ h4 => Nat.lt_of_lt_of_le h2 (key_le h _ _ (Nat.zero_le j) h4)⟩

theorem k_cls0 : key clsS.data.toList 12 0 = 768 := by kernel_rfl
theorem k_cls1 : key clsS.data.toList 12 1 = 789 := by kernel_rfl
theorem k_cls0b : fld clsS.data.toList 12 0 5 5 = 788 := by kernel_rfl
theorem k_cls0c : fld clsS.data.toList 12 0 10 2 = 230 := by kernel_rfl
theorem k_dec0 : key decS.data.toList 16 0 = 192 := by kernel_rfl
theorem k_dec34 : key decS.data.toList 16 34 = 233 := by kernel_rfl
theorem k_dec34a : fld decS.data.toList 16 34 5 5 = 101 := by kernel_rfl
theorem k_dec34b : fld decS.data.toList 16 34 10 5 = 769 := by kernel_rfl
theorem k_dec345 : key decS.data.toList 16 345 = 2392 := by kernel_rfl
theorem k_dec345c : decS.data.toList[345 * 16 + 15]? = some 45 := by kernel_rfl
theorem k_dec352 : key decS.data.toList 16 352 = 2399 := by kernel_rfl
theorem k_dec353 : key decS.data.toList 16 353 = 2507 := by kernel_rfl
/- Lemmas of any character (a closed one sends the kernel through the tables). -/
theorem cls_of {c i : Nat} (hi : i + 1 < 388) (h1 : key clsL 12 i ≤ c) (h2 : c < key clsL 12 (i + 1)) (h3 : c ≤ fld clsL 12 i 5 5) : clsOf c = fld clsL 12 i 10 2 := by
  have h := rank_at cls_rising hi h1 h2
  unfold clsOf
  unfold clsL at *
  rw [h, if_neg (Nat.succ_ne_zero i), Nat.add_sub_cancel, if_neg (Nat.not_lt.2 h3)]
theorem cls_none {c : Nat} (h1 : c < key clsL 12 0) : clsOf c = 0 := by
  have h := rank_zero cls_rising h1
  unfold clsOf
  unfold clsL at *
  rw [h, if_pos rfl]
theorem row_none {c i : Nat} (hi : i + 1 < 2061) (h1 : key decL 16 i < c) (h2 : c < key decL 16 (i + 1)) : rowOf c = 0 := by
  have h := rank_at dec_rising hi (Nat.le_of_lt h1) h2
  unfold rowOf
  unfold decL at *
  rw [h, Nat.add_sub_cancel, if_pos (.inr (Nat.ne_of_lt h1))]
theorem row_less {c : Nat} (h1 : c < key decL 16 0) : rowOf c = 0 := by
  have h := rank_zero dec_rising h1
  unfold rowOf
  unfold decL at *
  rw [h, if_pos (.inl rfl)]
theorem quick_no {c k : Nat} (hr : rowOf c = k + 1) (hb : decL[k * 16 + 15]? = some 45) : quickOf c = 1 := by
  obtain ⟨_, _, h3⟩ := row_dec hr
  unfold quickOf
  rw [h3, hr, hb, if_pos ⟨Nat.succ_ne_zero k, by decide⟩]
theorem sec_of {c i : Nat} (hi : i < 941) (h : fld parL 15 i 5 5 = c) : secOf c = true := by
  unfold secOf
  rw [(isSec_iff c).2 ⟨i, hi, h⟩, Bool.or_true]
theorem no_of {c : Nat} (hr : rowOf c = 0) (hs : secOf c = true) : startOf c = false := by
  unfold startOf quickOf
  rw [hr, hs, if_neg (fun h => h.1 rfl), if_pos rfl]
  simp
theorem yes_of {c : Nat} (hr : rowOf c = 0) (hc : clsOf c = 0) (hs : secOf c = false) : startOf c = true := by
  unfold startOf quickOf
  rw [hr, hs, hc, if_neg (fun h => h.1 rfl), if_neg Bool.false_ne_true]
  rfl
theorem decOk_of {c k : Nat} (hr : rowOf c = k + 1) : decOk c = true := by
  unfold decOk
  rw [hr]
  exact decide_eq_true (Nat.succ_ne_zero k)
theorem leq {x y z : Nat} (h : x = y) (h2 : y ≤ z) : x ≤ z := h ▸ h2
theorem geq {x y z : Nat} (h : x = y) (h2 : z ≤ y) : z ≤ x := h ▸ h2

theorem v_cls : clsOf 769 = 230 := (cls_of (i := 0) (by decide) (leq k_cls0 (by decide)) (geq k_cls1 (by decide)) (geq k_cls0b (by decide))).trans k_cls0c
theorem v_row : rowOf 233 = 34 + 1 := row_of_key (by decide) k_dec34
theorem v_decA : decA 233 = 101 := (row_dec v_row).1.trans k_dec34a
theorem v_decB : decB 233 = 769 := (row_dec v_row).2.1.trans k_dec34b
theorem v_ok : decOk 233 = true := decOk_of v_row
theorem v_quick : quickOf 2392 = 1 := quick_no (row_of_key (j := 345) (by decide) k_dec345) k_dec345c
end Go.Proofs.YtjgeghfaahfccaaDoor

/- What the program's seven functions answer. -/
namespace Go.Proofs.YtjgeghfaahfccaaDoor
open Go.RowKit

theorem par_sz2 : parS.size = 14115 := by rw [size_of]; exact par_size

theorem class_find (c b : Nat) (w : World) (hc : At w b (.int .u32 (c : Int))) :
    Calls Tryd.prog 40 #[.string clsS, .int .i64 12, .func (.func 41) #[] #[.pointer (some ⟨b, 0, none⟩)]] w fun e w' =>
      ((∃ r, r < 388 ∧ e = .returned (.tuple #[.string (rowS clsS 12 r), .bool true]) ∧ clsOf c = fld clsS.data.toList 12 r 10 2) ∨ (e = .returned (.tuple #[.string ⟨#[]⟩, .bool false]) ∧ clsOf c = 0)) ∧ Up w w' := by
  have eg : ∀ args w, (callFunc 41 args).run Tryd.prog w = .ok (.enter 41 args) w := enters_of Tryd.func41 (by kernel_rfl) rfl
  have hf := find_prog clsS 12 388 41 #[.pointer (some ⟨b, 0, none⟩)] eg (by rw [cls_sz]; decide) (by rw [cls_sz]; rfl) (by decide) (by rw [cls_sz]; decide) (by decide)
    (fun i => inR (key clsS.data.toList 12 i) (fld clsS.data.toList 12 i 5 5) c) w
    (Lib.hid fun i hi w1 u => class_step (rowS clsS 12 i) (key clsS.data.toList 12 i) (fld clsS.data.toList 12 i 5 5) c b
      (Lib.hid (by rw [key_fld]; exact row_chr clsS (k := 0) cls_hex hi (by decide) (by decide) (by decide) (by rw [cls_sz]; decide)))
      (Lib.hid (row_chr clsS (k := 1) cls_hex hi (by decide) (by decide) (by decide) (by rw [cls_sz]; decide))) w1 (hc.up u))
    (Lib.hid (cls_mono c))
  refine Calls.mono hf ?_
  rintro e w' ⟨r, ok, rfl, hP, hu⟩
  refine ⟨?_, hu⟩
  rcases cls_found hP with ⟨rfl, h1, h2⟩ | ⟨rfl, h2⟩
  · exact .inl ⟨r, h1, rfl, h2⟩
  · exact .inr ⟨rfl, h2⟩

theorem dec_find (c b : Nat) (w : World) (hc : At w b (.int .u32 (c : Int))) :
    Calls Tryd.prog 40 #[.string decS, .int .i64 16, .func (.func 61) #[] #[.pointer (some ⟨b, 0, none⟩)]] w fun e w' =>
      ((∃ r, r < 2061 ∧ e = .returned (.tuple #[.string (rowS decS 16 r), .bool true]) ∧ rowOf c = r + 1) ∨ (e = .returned (.tuple #[.string ⟨#[]⟩, .bool false]) ∧ rowOf c = 0)) ∧ Up w w' := by
  have eg : ∀ args w, (callFunc 61 args).run Tryd.prog w = .ok (.enter 61 args) w := enters_of Tryd.func61 (by kernel_rfl) rfl
  have hf := find_prog decS 16 2061 61 #[.pointer (some ⟨b, 0, none⟩)] eg (by rw [dec_sz]; decide) (by rw [dec_sz]; rfl) (by decide) (by rw [dec_sz]; decide) (by decide)
    (fun i => cmp3 c (key decS.data.toList 16 i)) w
    (Lib.hid fun i hi w1 u => decomp_step (rowS decS 16 i) (key decS.data.toList 16 i) c b
      (Lib.hid (by rw [key_fld]; exact row_chr decS (k := 0) dec_hex hi (by decide) (by decide) (by decide) (by rw [dec_sz]; decide))) w1 (hc.up u))
    (Lib.hid (dec_mono c))
  refine Calls.mono hf ?_
  rintro e w' ⟨r, ok, rfl, hP, hu⟩
  refine ⟨?_, hu⟩
  rcases dec_found hP with ⟨rfl, h1, h2⟩ | ⟨rfl, h2⟩
  · exact .inl ⟨r, h1, rfl, h2⟩
  · exact .inr ⟨rfl, h2⟩

end Go.Proofs.YtjgeghfaahfccaaDoor

/- The program's Class, decomp, Decomp, Pair. -/
namespace Go.Proofs.YtjgeghfaahfccaaDoor
open Go.RowKit

theorem class_tail (r : Nat) (hr : r < 388) : ∃ S : ByteArray, (∀ w, (Instr.slice 9 (.string (rowS clsS 12 r)) (some (.int .i64 10)) none none).run Tryd.prog w = .ok (.string S) w) ∧
    ∀ w, Calls Tryd.prog 43 #[.string S] w fun e w' => e = .returned (.int .u32 (fld clsS.data.toList 12 r 10 2 : Int)) ∧ w = w' := by
  have hs : (rowS clsS 12 r).size = 12 := rowS_size clsS 12 r (by rw [cls_sz]; omega)
  obtain ⟨S, h1, h2, h3⟩ := cut_tail (rowS clsS 12 r) 10 (by decide) (by rw [hs]; decide)
  have e : S.data.toList = (clsS.data.toList.drop (r * 12 + 10)).take 2 := by
    rw [h1, ← row_fld clsS 12 r 10 2 (by decide), List.take_of_length_le]
    · rfl
    · rw [List.length_drop, ← size_of, hs]
      decide
  refine ⟨S, h3, fun w => ?_⟩
  have hn := number_prog S (by rw [h2, hs]; decide) (Lib.hid (by rw [e]; exact hexes_fld cls_hex hr (by decide))) w
  rw [e] at hn
  exact hn

set_option maxRecDepth 100000 in
theorem class_prog (c : Nat) (w : World) : Calls Tryd.prog 26 #[.int .u32 (c : Int)] w fun e w' => e = .returned (.int .i64 (clsOf c : Int)) ∧ Up w w' := by
  have HF := Lib.hid (class_find c w.heap.size (w.alloc (.cells #[.int .u32 (c : Int)] 22)) (At.new _ _ _))
  have HT := Lib.hid class_tail
  have hu0 : Up w (w.alloc (.cells #[.int .u32 (c : Int)] 22)) := (Up.refl w).alloc _
  have HB := Lib.hid (fun r => fld_le clsS.data.toList 12 r 10 2 (by decide))
  generalize clsOf c = v at *
  go_enter Tryd.func26, Tryd.ntmps26
  conv in (occs := *) (Value.string _) => all_goals (first | change Value.string clsS | skip)
  generalize clsS = S at *
  go_wp2_with fail
  refine HF.out.mono ?_
  rintro e w1 ⟨⟨r, hr, rfl, hv⟩ | ⟨rfl, hv⟩, hu⟩
  · obtain ⟨R, h1, h2⟩ := HT.out r hr
    have hb := HB.out r
    have hu1 := hu0.trans hu
    rw [← hv] at hb
    simp only [← hv] at h2
    clear HF HT HB hu0 hu hv
    generalize rowS S 12 r = Q at *
    go_wp2_with fail
    refine (h2 _).mono ?_
    rintro e w2 ⟨rfl, rfl⟩
    go_wp2_with fail
    go_ret
    exact ⟨rfl, hu1⟩
  · have hu1 := hu0.trans hu
    subst hv
    clear HF HT HB hu0 hu
    go_wp2_with fail
    go_ret
    exact ⟨rfl, hu1⟩

set_option maxRecDepth 100000 in
theorem dec_prog (c : Nat) (w : World) : Calls Tryd.prog 57 #[.int .u32 (c : Int)] w fun e w' =>
    ((∃ r, r < 2061 ∧ e = .returned (.tuple #[.string (rowS decS 16 r), .bool true]) ∧ rowOf c = r + 1) ∨ (e = .returned (.tuple #[.string ⟨#[]⟩, .bool false]) ∧ rowOf c = 0)) ∧ Up w w' := by
  have HF := Lib.hid (dec_find c w.heap.size (w.alloc (.cells #[.int .u32 (c : Int)] 22)) (At.new _ _ _))
  have hu0 : Up w (w.alloc (.cells #[.int .u32 (c : Int)] 22)) := (Up.refl w).alloc _
  generalize rowOf c = v at *
  go_enter Tryd.func57, Tryd.ntmps57
  conv in (occs := *) (Value.string _) => all_goals (first | change Value.string decS | skip)
  generalize decS = S at *
  go_wp2_with fail
  refine HF.out.mono ?_
  rintro e w1 ⟨⟨r, hr, rfl, hv⟩ | ⟨rfl, hv⟩, hu⟩
  · have hu1 := hu0.trans hu
    have HV := Lib.hid hv
    clear HF hu0 hu hv
    generalize hQ : rowS S 16 r = Q at *
    have HQ := Lib.hid hQ
    clear hQ
    go_wp2_with fail
    go_ret2
    exact ⟨.inl ⟨r, hr, by rw [HQ.out]; rfl, HV.out⟩, hu1⟩
  · have hu1 := hu0.trans hu
    have HV := Lib.hid hv
    clear HF hu0 hu hv
    go_wp2_with fail
    go_ret2
    exact ⟨.inr ⟨rfl, HV.out⟩, hu1⟩

set_option maxRecDepth 100000 in
theorem decomp_prog (c : Nat) (w : World) : Calls Tryd.prog 47 #[.int .u32 (c : Int)] w fun e w' => e = .returned (.tuple #[.int .u32 (decA c : Int), .int .u32 (decB c : Int), .bool (decOk c)]) ∧ Up w w' := by
  have HF := Lib.hid (dec_prog c w)
  have HR := Lib.hid (fun r (h : rowOf c = r + 1) => (row_dec h))
  have HA : decOk c = decide (rowOf c ≠ 0) := rfl
  have HN : Hid (rowOf c = 0 → decA c = 0 ∧ decB c = 0) := Lib.hid (fun h => by unfold decA decB; rw [h]; exact ⟨rfl, rfl⟩)
  have H1 := Lib.hid (fun r (hr : r < 2061) => row_chr decS (i := r) (k := 1) dec_hex hr (by decide) (by decide) (by decide) (by rw [dec_sz]; decide))
  have H2 := Lib.hid (fun r (hr : r < 2061) => row_chr decS (i := r) (k := 2) dec_hex hr (by decide) (by decide) (by decide) (by rw [dec_sz]; decide))
  rw [HA]
  clear HA
  unfold decL at HR
  generalize decA c = x at *
  generalize decB c = y at *
  generalize rowOf c = v at *
  generalize decS = S at *
  go_enter Tryd.func47, Tryd.ntmps47
  go_wp2_with fail
  refine HF.out.mono ?_
  rintro e w1 ⟨⟨r, hr, rfl, hv⟩ | ⟨rfl, hv⟩, hu⟩
  · obtain ⟨ha, hb, _⟩ := HR.out r hv
    have h1 := H1.out r hr
    have h2 := H2.out r hr
    rw [← ha] at h1
    rw [← hb] at h2
    subst hv
    clear ha hb HR HF HN H1 H2
    unfold Chr at h1 h2
    generalize rowS S 16 r = Q at *
    go_wp2_with fail
    refine (h1 _).mono ?_
    rintro e w2 ⟨rfl, rfl⟩
    go_wp2_with fail
    refine (h2 _).mono ?_
    rintro e w3 ⟨rfl, rfl⟩
    go_wp2_with fail
    go_ret3
    exact ⟨by simp, hu⟩
  · obtain ⟨ha, hb⟩ := HN.out hv
    subst ha hb hv
    clear HR HF HN H1 H2
    go_wp2_with fail
    go_ret3
    exact ⟨by simp, hu⟩

end Go.Proofs.YtjgeghfaahfccaaDoor

/- The program's Composes, Second, Quickly, Starts; all seven. -/
namespace Go.Proofs.YtjgeghfaahfccaaDoor
open Go.RowKit

theorem row_last (r : Nat) (hr : r < 2061) : ∃ y : UInt8, decS.data.toList[r * 16 + 15]? = some y ∧ ∀ w, (Instr.index 9 (.string (rowS decS 16 r)) (.int .i64 15)).run Tryd.prog w = .ok (.int .u8 (y.toNat : Int)) w := by
  have hs : (rowS decS 16 r).size = 16 := rowS_size decS 16 r (by rw [dec_sz]; omega)
  have hl : (rowS decS 16 r).data.toList.length = 16 := by rw [← size_of, hs]
  have e : decS.data.toList[r * 16 + 15]? = some (rowS decS 16 r)[15] := by
    have h1 : (rowS decS 16 r).data.toList[15]? = decS.data.toList[r * 16 + 15]? := by
      rw [rowS_list, List.getElem?_take_of_lt (by decide), List.getElem?_drop]
    rw [← h1, List.getElem?_eq_getElem (by rw [hl]; decide)]
    rfl
  refine ⟨_, e, fun w => ?_⟩
  rw [run_index_string w 9 (rowS decS 16 r) .i64 15 Tryd.underlying9, dif_pos ⟨by decide, by rw [hs]; decide⟩]
  rfl

theorem is_c (y : UInt8) : decide (some y = some 99) = ((y.toNat : Int) == 99) := by
  rw [Bool.eq_iff_iff]
  simp only [decide_eq_true_eq, Option.some.injEq, beq_iff_eq]
  constructor
  · rintro rfl; rfl
  · intro h; exact UInt8.toNat_inj.1 (by show y.toNat = 99; omega)

end Go.Proofs.YtjgeghfaahfccaaDoor
