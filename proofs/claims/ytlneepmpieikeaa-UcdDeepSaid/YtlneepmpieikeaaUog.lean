/- The program's Class, decomp, Decomp, Pair. -/
import Derived.Test.YtlneepmpieikeaaUok
namespace Go.Proofs.Ytlneepmpieikeaa
open Go.RowKit

theorem class_tail (r : Nat) (hr : r < 388) : ∃ S : ByteArray, (∀ w, (Instr.slice 9 (.string (rowS clsS 12 r)) (some (.int .i64 10)) none none).run Try.prog w = .ok (.string S) w) ∧
    ∀ w, Calls Try.prog 28 #[.string S] w fun e w' => e = .returned (.int .u32 (fld clsS.data.toList 12 r 10 2 : Int)) ∧ w = w' := by
  have hs : (rowS clsS 12 r).size = 12 := rowS_size clsS 12 r (by rw [cls_sz]; omega)
  obtain ⟨S, h1, h2, h3⟩ := cut_tail (rowS clsS 12 r) 10 (by decide) (by rw [hs]; decide)
  have e : S.data.toList = (clsS.data.toList.drop (r * 12 + 10)).take 2 := by
    rw [h1, ← row_fld clsS 12 r 10 2 (by decide), List.take_of_length_le]
    · rfl
    · rw [List.length_drop, ← size_of, hs]
      decide
  refine ⟨S, h3, fun w => ?_⟩
  have hn := number_prog S (by rw [h2, hs]; decide) (Lib.hid (by rw [e]; exact hexes_fld cls_hex hr (by decide))) w
  rw [e] at hn
  exact hn

set_option maxRecDepth 100000 in
theorem class_prog (c : Nat) (w : World) : Calls Try.prog 10 #[.int .u32 (c : Int)] w fun e w' => e = .returned (.int .i64 (clsOf c : Int)) ∧ Up w w' := by
  have HF := Lib.hid (class_find c w.heap.size (w.alloc (.cells #[.int .u32 (c : Int)] 22)) (At.new _ _ _))
  have HT := Lib.hid class_tail
  have hu0 : Up w (w.alloc (.cells #[.int .u32 (c : Int)] 22)) := (Up.refl w).alloc _
  have HB := Lib.hid (fun r => fld_le clsS.data.toList 12 r 10 2 (by decide))
  generalize clsOf c = v at *
  go_enter Try.func10, Try.ntmps10
  conv in (occs := *) (Value.string _) => all_goals (first | change Value.string clsS | skip)
  generalize clsS = S at *
  go_wp2_with fail
  refine HF.out.mono ?_
  rintro e w1 ⟨⟨r, hr, rfl, hv⟩ | ⟨rfl, hv⟩, hu⟩
  · obtain ⟨R, h1, h2⟩ := HT.out r hr
    have hb := HB.out r
    have hu1 := hu0.trans hu
    rw [← hv] at hb
    simp only [← hv] at h2
    clear HF HT HB hu0 hu hv
    generalize rowS S 12 r = Q at *
    go_wp2_with fail
    refine (h2 _).mono ?_
    rintro e w2 ⟨rfl, rfl⟩
    go_wp2_with fail
    go_ret
    exact ⟨rfl, hu1⟩
  · have hu1 := hu0.trans hu
    subst hv
    clear HF HT HB hu0 hu
    go_wp2_with fail
    go_ret
    exact ⟨rfl, hu1⟩

set_option maxRecDepth 100000 in
theorem dec_prog (c : Nat) (w : World) : Calls Try.prog 31 #[.int .u32 (c : Int)] w fun e w' =>
    ((∃ r, r < 2061 ∧ e = .returned (.tuple #[.string (rowS decS 16 r), .bool true]) ∧ rowOf c = r + 1) ∨ (e = .returned (.tuple #[.string ⟨#[]⟩, .bool false]) ∧ rowOf c = 0)) ∧ Up w w' := by
  have HF := Lib.hid (dec_find c w.heap.size (w.alloc (.cells #[.int .u32 (c : Int)] 22)) (At.new _ _ _))
  have hu0 : Up w (w.alloc (.cells #[.int .u32 (c : Int)] 22)) := (Up.refl w).alloc _
  generalize rowOf c = v at *
  go_enter Try.func31, Try.ntmps31
  conv in (occs := *) (Value.string _) => all_goals (first | change Value.string decS | skip)
  generalize decS = S at *
  go_wp2_with fail
  refine HF.out.mono ?_
  rintro e w1 ⟨⟨r, hr, rfl, hv⟩ | ⟨rfl, hv⟩, hu⟩
  · have hu1 := hu0.trans hu
    have HV := Lib.hid hv
    clear HF hu0 hu hv
    generalize hQ : rowS S 16 r = Q at *
    have HQ := Lib.hid hQ
    clear hQ
    go_wp2_with fail
    go_ret2
    exact ⟨.inl ⟨r, hr, by rw [HQ.out]; rfl, HV.out⟩, hu1⟩
  · have hu1 := hu0.trans hu
    have HV := Lib.hid hv
    clear HF hu0 hu hv
    go_wp2_with fail
    go_ret2
    exact ⟨.inr ⟨rfl, HV.out⟩, hu1⟩

set_option maxRecDepth 100000 in
theorem decomp_prog (c : Nat) (w : World) : Calls Try.prog 13 #[.int .u32 (c : Int)] w fun e w' => e = .returned (.tuple #[.int .u32 (decA c : Int), .int .u32 (decB c : Int), .bool (decOk c)]) ∧ Up w w' := by
  have HF := Lib.hid (dec_prog c w)
  have HR := Lib.hid (fun r (h : rowOf c = r + 1) => (row_dec h))
  have HA : decOk c = decide (rowOf c ≠ 0) := rfl
  have HN : Hid (rowOf c = 0 → decA c = 0 ∧ decB c = 0) := Lib.hid (fun h => by unfold decA decB; rw [h]; exact ⟨rfl, rfl⟩)
  have H1 := Lib.hid (fun r (hr : r < 2061) => row_chr decS (i := r) (k := 1) dec_hex hr (by decide) (by decide) (by decide) (by rw [dec_sz]; decide))
  have H2 := Lib.hid (fun r (hr : r < 2061) => row_chr decS (i := r) (k := 2) dec_hex hr (by decide) (by decide) (by decide) (by rw [dec_sz]; decide))
  rw [HA]
  clear HA
  unfold decL at HR
  generalize decA c = x at *
  generalize decB c = y at *
  generalize rowOf c = v at *
  generalize decS = S at *
  go_enter Try.func13, Try.ntmps13
  go_wp2_with fail
  refine HF.out.mono ?_
  rintro e w1 ⟨⟨r, hr, rfl, hv⟩ | ⟨rfl, hv⟩, hu⟩
  · obtain ⟨ha, hb, _⟩ := HR.out r hv
    have h1 := H1.out r hr
    have h2 := H2.out r hr
    rw [← ha] at h1
    rw [← hb] at h2
    subst hv
    clear ha hb HR HF HN H1 H2
    unfold Chr at h1 h2
    generalize rowS S 16 r = Q at *
    go_wp2_with fail
    refine (h1 _).mono ?_
    rintro e w2 ⟨rfl, rfl⟩
    go_wp2_with fail
    refine (h2 _).mono ?_
    rintro e w3 ⟨rfl, rfl⟩
    go_wp2_with fail
    go_ret3
    exact ⟨by simp, hu⟩
  · obtain ⟨ha, hb⟩ := HN.out hv
    subst ha hb hv
    clear HR HF HN H1 H2
    go_wp2_with fail
    go_ret3
    exact ⟨by simp, hu⟩

set_option maxRecDepth 100000 in
theorem pair_prog (a b : Nat) (w : World) : Calls Try.prog 17 #[.int .u32 (a : Int), .int .u32 (b : Int)] w fun e w' => ∃ (x : Nat) (ok : Bool), e = .returned (.tuple #[.int .u32 (x : Int), .bool ok]) ∧ PairP parL a b x ok ∧ Up w w' := by
  obtain ⟨W, hW⟩ : ∃ W, (w.alloc (.cells #[.int .u32 (a : Int)] 22)).alloc (.cells #[.int .u32 (b : Int)] 22) = W := ⟨_, rfl⟩
  have A1 : At W w.heap.size (.int .u32 (a : Int)) := by rw [← hW]; exact (At.new _ _ _).alloc _
  have A2 : At W (w.heap.size + 1) (.int .u32 (b : Int)) := by
    rw [← hW]
    have := At.new (w.alloc (.cells #[.int .u32 (a : Int)] 22)) (.int .u32 (b : Int)) 22
    rwa [show (w.alloc (.cells #[.int .u32 (a : Int)] 22)).heap.size = w.heap.size + 1 from by simp] at this
  have hu0 : Up w W := by rw [← hW]; exact ((Up.refl w).alloc _).alloc _
  have HF := Lib.hid (par_find a b w.heap.size (w.heap.size + 1) W A1 A2)
  have H2 := Lib.hid (fun r (hr : r < 941) => row_chr parS (i := r) (k := 2) par_hex hr (by decide) (by decide) (by decide) (by rw [par_sz2]; decide))
  clear A1 A2
  unfold parL at *
  have HW := Lib.hid hW
  clear hW
  go_enter Try.func17, Try.ntmps17
  conv in (occs := *) (Value.string _) => all_goals (first | change Value.string parS | skip)
  generalize parS = S at *
  go_wp2_with fail
  rw [HW.out]
  clear HW
  refine HF.out.mono ?_
  rintro e w1 ⟨⟨r, hr, rfl, hv⟩ | ⟨rfl, hv⟩, hu⟩
  · have hu1 := hu0.trans hu
    have HV := Lib.hid hv
    have h2 := H2.out r hr
    unfold Chr at h2
    clear HF hu0 hu hv H2
    generalize rowS S 15 r = Q at *
    generalize fld S.data.toList 15 r (5 * 2) 5 = y at *
    go_wp2_with fail
    refine (h2 _).mono ?_
    rintro e w3 ⟨rfl, rfl⟩
    go_wp2_with fail
    go_ret2
    exact ⟨y, true, rfl, HV.out, hu1⟩
  · have hu1 := hu0.trans hu
    have HV := Lib.hid hv
    clear HF hu0 hu hv H2
    go_wp2_with fail
    go_ret2
    exact ⟨0, false, rfl, HV.out, hu1⟩

end Go.Proofs.Ytlneepmpieikeaa
