/- The program's Class, decomp, Decomp, Pair. -/
import Derived.Test.YthdhlcafomhdbaaDoorUok
namespace Go.Proofs.YthdhlcafomhdbaaDoor
open Go.RowKit

set_option maxRecDepth 100000 in
theorem dec_prog (c : Nat) (w : World) : Calls Tryd.prog 34 #[.int .u32 (c : Int)] w fun e w' =>
    ((∃ r, r < 2061 ∧ e = .returned (.tuple #[.string (rowS decS 16 r), .bool true]) ∧ rowOf c = r + 1) ∨ (e = .returned (.tuple #[.string ⟨#[]⟩, .bool false]) ∧ rowOf c = 0)) ∧ Up w w' := by
  have HF := Lib.hid (dec_find c w.heap.size (w.alloc (.cells #[.int .u32 (c : Int)] 22)) (At.new _ _ _))
  have hu0 : Up w (w.alloc (.cells #[.int .u32 (c : Int)] 22)) := (Up.refl w).alloc _
  generalize rowOf c = v at *
  go_enter Tryd.func34, Tryd.ntmps34
  conv in (occs := *) (Value.string _) => all_goals (first | change Value.string decS | skip)
  generalize decS = S at *
  go_wp2_with fail
  refine HF.out.mono ?_
  rintro e w1 ⟨⟨r, hr, rfl, hv⟩ | ⟨rfl, hv⟩, hu⟩
  · have hu1 := hu0.trans hu
    have HV := Lib.hid hv
    clear HF hu0 hu hv
    generalize hQ : rowS S 16 r = Q at *
    have HQ := Lib.hid hQ
    clear hQ
    go_wp2_with fail
    go_ret2
    exact ⟨.inl ⟨r, hr, by rw [HQ.out]; rfl, HV.out⟩, hu1⟩
  · have hu1 := hu0.trans hu
    have HV := Lib.hid hv
    clear HF hu0 hu hv
    go_wp2_with fail
    go_ret2
    exact ⟨.inr ⟨rfl, HV.out⟩, hu1⟩

set_option maxRecDepth 100000 in
theorem decomp_prog (c : Nat) (w : World) : Calls Tryd.prog 30 #[.int .u32 (c : Int)] w fun e w' => e = .returned (.tuple #[.int .u32 (decA c : Int), .int .u32 (decB c : Int), .bool (decOk c)]) ∧ Up w w' := by
  have HF := Lib.hid (dec_prog c w)
  have HR := Lib.hid (fun r (h : rowOf c = r + 1) => (row_dec h))
  have HA : decOk c = decide (rowOf c ≠ 0) := rfl
  have HN : Hid (rowOf c = 0 → decA c = 0 ∧ decB c = 0) := Lib.hid (fun h => by unfold decA decB; rw [h]; exact ⟨rfl, rfl⟩)
  have H1 := Lib.hid (fun r (hr : r < 2061) => row_chr decS (i := r) (k := 1) dec_hex hr (by decide) (by decide) (by decide) (by rw [dec_sz]; decide))
  have H2 := Lib.hid (fun r (hr : r < 2061) => row_chr decS (i := r) (k := 2) dec_hex hr (by decide) (by decide) (by decide) (by rw [dec_sz]; decide))
  rw [HA]
  clear HA
  unfold decL at HR
  generalize decA c = x at *
  generalize decB c = y at *
  generalize rowOf c = v at *
  generalize decS = S at *
  go_enter Tryd.func30, Tryd.ntmps30
  go_wp2_with fail
  refine HF.out.mono ?_
  rintro e w1 ⟨⟨r, hr, rfl, hv⟩ | ⟨rfl, hv⟩, hu⟩
  · obtain ⟨ha, hb, _⟩ := HR.out r hv
    have h1 := H1.out r hr
    have h2 := H2.out r hr
    rw [← ha] at h1
    rw [← hb] at h2
    subst hv
    clear ha hb HR HF HN H1 H2
    unfold Chr at h1 h2
    generalize rowS S 16 r = Q at *
    go_wp2_with fail
    refine (h1 _).mono ?_
    rintro e w2 ⟨rfl, rfl⟩
    go_wp2_with fail
    refine (h2 _).mono ?_
    rintro e w3 ⟨rfl, rfl⟩
    go_wp2_with fail
    go_ret3
    exact ⟨by simp, hu⟩
  · obtain ⟨ha, hb⟩ := HN.out hv
    subst ha hb hv
    clear HR HF HN H1 H2
    go_wp2_with fail
    go_ret3
    exact ⟨by simp, hu⟩

end Go.Proofs.YthdhlcafomhdbaaDoor
