/- The closed case that each statement of scan asks for. -/
import Derived.Test.YtdkegfookbgicaaFrom
namespace Go.Proofs.Ytdkegfookbgicaa
open Go.RowKit

theorem go_41c3 : U.St.new.go [65, 195] = ⟨2, -1, [195]⟩ := by kernel_rfl
theorem opn_e0a0 : decide (U.opn [224, 160]) = true := by kernel_rfl
theorem opn_e09f : decide (U.opn [224, 159]) = false := by kernel_rfl

theorem field_0 (x y z : Value) (w : World) : (Instr.field 36 (.agg #[x, y, z]) 0).run Try.prog w = .ok x w := by kernel_rfl
theorem field_2 (x y z : Value) (w : World) : (Instr.field 36 (.agg #[x, y, z]) 2).run Try.prog w = .ok z w := by kernel_rfl

set_option maxRecDepth 100000 in
set_option maxHeartbeats 800000 in
theorem awake_2 (w : World) : Calls Try.prog 11 #[] w fun e w' => e = .returned (.bool true) ∧ Up w w' := by
  go_enter Try.func11, Try.ntmps11
  go_wp2_with fail
  refine (new_code w).mono ?_
  rintro e w1 ⟨g, rfl, hsc1, hu1, hg1⟩
  have hgl := hsc1.lt
  have r2 : Rd (w1.alloc (.cells #[.int .u8 65, .int .u8 195] 5)) (some ⟨w1.heap.size, 0, none⟩) 2 (bs [65, 195]) := Rd.new w1 _ _ rfl rfl (by unfold maxLen; omega)
  have hf := feed_ok (hsc1.up ((Up.refl w1).alloc _)) (by decide) (by decide) _ 2 2 [65, 195] r2 rfl (by decide) (fun _ a ha => by
    injection ha with e
    subst e
    exact ⟨by show w1.heap.size ≠ g; omega, by show w1.heap.size ≠ g; omega⟩)
  rw [go_41c3] at hf
  clear r2
  go_wp2_with fail
  refine hf.mono ?_
  rintro e w2 ⟨rfl, k2, hsc2, hk2, hfr2⟩
  clear hf
  have hu2 : Up w w2 := (hu1.trans ((Up.refl w1).alloc _)).fr hfr2 hg1 hg1
  clear hfr2 hu1 hsc1 hk2 hg1 hgl
  go_wp2_with fail
  refine (sc_fault hsc2).mono ?_
  rintro e w3 ⟨rfl, hu3⟩
  have hsc3 := hsc2.up hu3
  go_wp2_with fail
  refine (sc_end hsc3 (by decide) (by decide) (by decide)).mono ?_
  rintro e w4 ⟨rfl, hu4⟩
  have hsc4 := hsc3.up hu4
  rw [show U.St.end ⟨2, -1, [195]⟩ = 1 by decide]
  go_wp2_with fail
  refine (sc_state hsc4 (by decide)).mono ?_
  rintro e w5 ⟨A5, c5, rfl, hrd5, _, hu5⟩
  have hstr := hrd5.str (n := 1) rfl
  have hu6 := ((hu2.trans hu3).trans hu4).trans hu5
  clear hsc2 hsc3 hsc4 hu2 hu3 hu4 hu5
  have hfd := fun (w' : World) => field_2 (.int .i64 2) (.int .i64 (-1)) (.slice A5 1 c5) w'
  have r6 : Rd (w5.alloc (.cells #[.int .u8 224, .int .u8 160] 5)) (some ⟨w5.heap.size, 0, none⟩) 2 (bs [224, 160]) := Rd.new w5 _ _ rfl rfl (by unfold maxLen; omega)
  have ho6 := open_code _ 2 2 [224, 160] _ r6 rfl
  rw [opn_e0a0] at ho6
  clear r6 hrd5
  go_wp2_with fail
  refine ho6.mono ?_
  rintro e w7 ⟨rfl, hu7⟩
  clear ho6 hfd hstr
  have r8 : Rd (w7.alloc (.cells #[.int .u8 224, .int .u8 159] 5)) (some ⟨w7.heap.size, 0, none⟩) 2 (bs [224, 159]) := Rd.new w7 _ _ rfl rfl (by unfold maxLen; omega)
  have ho8 := open_code _ 2 2 [224, 159] _ r8 rfl
  rw [opn_e09f] at ho8
  clear r8
  go_wp2_with fail
  refine ho8.mono ?_
  rintro e w9 ⟨rfl, hu9⟩
  clear ho8
  go_wp2_with fail
  go_ret
  exact ⟨rfl, (((hu6.alloc _).trans hu7).alloc _).trans hu9⟩

end Go.Proofs.Ytdkegfookbgicaa
