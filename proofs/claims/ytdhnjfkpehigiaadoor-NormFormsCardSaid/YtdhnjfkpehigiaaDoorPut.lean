/- Put: the bytes of a code point. -/
import Derived.Test.YtdhnjfkpehigiaaDoorPre
namespace Go.Proofs.YtdhnjfkpehigiaaDoor
open Go.RowKit

theorem put_no (c : Int) (w : World) (hw : widthI c = 0) : Calls Tryd.prog 71 #[.int .u32 c] w fun e w' => e = .returned (.tuple #[.slice none 0 0, .int .i64 2]) ∧ w = w' := by
  have H := Lib.hid hw; clear hw
  go_enter Tryd.func71, Tryd.ntmps71
  go_wp2_with (go_at_call 97; refine (width_code _ _).mono ?_; rintro e w' ⟨rfl, rfl⟩; rw [H.out])
  go_ret2
  exact ⟨rfl, rfl⟩

theorem put_code (c : Nat) (hc : U.isCp c) (w : World) : Calls Tryd.prog 71 #[.int .u32 c] w fun e w' =>
    ∃ A, e = .returned (.tuple #[.slice A (U.wid c) (U.wid c), .int .i64 0]) ∧ Rd w' A (U.wid c) (bs (U.enc c)) ∧ Up w w' := by
  have hz : (widthI c == 0) = false := by rw [widthI_wid]; have := U.wid_pos.2 hc; exact beq_eq_false_iff_ne.2 (by omega)
  have hwr : wrap32 (c : Int) = c := wrap32_cp (by omega) (by have := hc.1; omega)
  have hl := U.enc_len hc
  have hsz : (Utf8.encode (c : Int)).size = U.wid c := by
    rw [ba_size, U.encode_eq hc, hl]
  have hw4 := U.wid_le c
  obtain ⟨k, w1, hrun, hrd, hup, hlt⟩ := bytes_of w (Utf8.encode (c : Int)) (by rw [hsz]; unfold maxLen; omega)
  rw [U.encode_eq hc] at hrd
  rw [hsz] at hrun
  have hk : U.wid c ≤ k := by have := hrd.fit; rw [bs_len, hl] at this; exact this
  have hm := hrd.max
  have hpos := U.wid_pos.2 hc
  have Hl := Lib.hid hl; clear hl
  generalize U.wid c = n at *
  unfold maxLen at hm
  have HR := Lib.hid hrd; clear hrd
  go_enter Tryd.func71, Tryd.ntmps71
  go_wp2_with (go_at_call 97; refine (width_code _ _).mono ?_; rintro e w' ⟨rfl, rfl⟩)
  go_ret2
  exact ⟨_, rfl, HR.out.room (by rw [bs_len, Hl.out]; omega) (by omega) (by omega), hup⟩

end Go.Proofs.YtdhnjfkpehigiaaDoor
