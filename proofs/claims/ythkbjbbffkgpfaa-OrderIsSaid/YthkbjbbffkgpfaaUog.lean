/- The program's Class, decomp, Decomp, Pair. -/
import Derived.Test.YthkbjbbffkgpfaaUok
namespace Go.Proofs.Ythkbjbbffkgpfaa
open Go.RowKit

theorem class_tail (r : Nat) (hr : r < 388) : ∃ S : ByteArray, (∀ w, (Instr.slice 9 (.string (rowS clsS 12 r)) (some (.int .i64 10)) none none).run Try.prog w = .ok (.string S) w) ∧
    ∀ w, Calls Try.prog 29 #[.string S] w fun e w' => e = .returned (.int .u32 (fld clsS.data.toList 12 r 10 2 : Int)) ∧ w = w' := by
  have hs : (rowS clsS 12 r).size = 12 := rowS_size clsS 12 r (by rw [cls_sz]; omega)
  obtain ⟨S, h1, h2, h3⟩ := cut_tail (rowS clsS 12 r) 10 (by decide) (by rw [hs]; decide)
  have e : S.data.toList = (clsS.data.toList.drop (r * 12 + 10)).take 2 := by
    rw [h1, ← row_fld clsS 12 r 10 2 (by decide), List.take_of_length_le]
    · rfl
    · rw [List.length_drop, ← size_of, hs]
      decide
  refine ⟨S, h3, fun w => ?_⟩
  have hn := number_prog S (by rw [h2, hs]; decide) (Lib.hid (by rw [e]; exact hexes_fld cls_hex hr (by decide))) w
  rw [e] at hn
  exact hn

set_option maxRecDepth 100000 in
theorem class_prog (c : Nat) (w : World) : Calls Try.prog 20 #[.int .u32 (c : Int)] w fun e w' => e = .returned (.int .i64 (clsOf c : Int)) ∧ Up w w' := by
  have HF := Lib.hid (class_find c w.heap.size (w.alloc (.cells #[.int .u32 (c : Int)] 26)) (At.new _ _ _))
  have HT := Lib.hid class_tail
  have hu0 : Up w (w.alloc (.cells #[.int .u32 (c : Int)] 26)) := (Up.refl w).alloc _
  have HB := Lib.hid (fun r => fld_le clsS.data.toList 12 r 10 2 (by decide))
  generalize clsOf c = v at *
  go_enter Try.func20, Try.ntmps20
  conv in (occs := *) (Value.string _) => all_goals (first | change Value.string clsS | skip)
  generalize clsS = S at *
  go_wp2_with fail
  refine HF.out.mono ?_
  rintro e w1 ⟨⟨r, hr, rfl, hv⟩ | ⟨rfl, hv⟩, hu⟩
  · obtain ⟨R, h1, h2⟩ := HT.out r hr
    have hb := HB.out r
    have hu1 := hu0.trans hu
    rw [← hv] at hb
    simp only [← hv] at h2
    clear HF HT HB hu0 hu hv
    generalize rowS S 12 r = Q at *
    go_wp2_with fail
    refine (h2 _).mono ?_
    rintro e w2 ⟨rfl, rfl⟩
    go_wp2_with fail
    go_ret
    exact ⟨rfl, hu1⟩
  · have hu1 := hu0.trans hu
    subst hv
    clear HF HT HB hu0 hu
    go_wp2_with fail
    go_ret
    exact ⟨rfl, hu1⟩

end Go.Proofs.Ythkbjbbffkgpfaa
