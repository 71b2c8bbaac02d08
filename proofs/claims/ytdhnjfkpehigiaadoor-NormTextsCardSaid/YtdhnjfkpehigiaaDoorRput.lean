/- The document's Put: the bytes of a code point. -/
import Derived.Test.YtdhnjfkpehigiaaDoorPre
namespace Go.Proofs.YtdhnjfkpehigiaaDoor
open Go.RowKit

theorem rput_no (c : Int) (w : World) (hw : widthI c = 0) : Calls Tryd.prog 74 #[.int .u32 c] w fun e w' => e = .returned (.slice none 0 0) ∧ w = w' := by
  have H := Lib.hid hw; clear hw
  go_enter Tryd.func74, Tryd.ntmps74
  go_wp2_with (go_at_call 99; refine (width_ref _ _).mono ?_; rintro e w' ⟨rfl, rfl⟩; rw [H.out])
  go_ret
  exact ⟨rfl, rfl⟩

/-- What the document's Put leaves. -/
def RPut (c : Nat) (w : World) (e : Ending) (w' : World) : Prop :=
  ∃ A, e = .returned (.slice A (U.wid c) (U.wid c)) ∧ Rd w' A (U.wid c) (bs (U.enc c)) ∧ Up w w'

theorem RPut.mk {c : Nat} (hc : U.isCp c) {w : World} {v : Value} {n : Nat} (cs : Array Value) (t : TypeId) (hn : n = U.wid c) (hv : v = .slice (some ⟨w.heap.size, 0, none⟩) n n) (hcs : bs (U.enc c) = cs.toList) :
    RPut c w (.returned v) (w.alloc (.cells cs t)) := by
  subst hn hv
  have := U.wid_le c
  exact ⟨_, rfl, Rd.new w cs t hcs (by rw [bs_len, U.enc_len hc]) (by unfold maxLen; omega), (Up.refl w).alloc _⟩

theorem u8_val (n : Nat) (h : n < 256) : Value.int .u8 ((UInt8.ofNat n).toNat : Int) = .int .u8 (n : Int) := by rw [U.toNat_of n h]

theorem rput_1 (c : Nat) (h : c < 128) (w : World) : Calls Tryd.prog 74 #[.int .u32 c] w (RPut c w) := by
  have H := Lib.hid (show widthI (c : Int) = 1 by unfold widthI; rw [if_pos (by omega)])
  go_enter Tryd.func74, Tryd.ntmps74
  go_wp2_with (go_at_call 99; refine (width_ref _ _).mono ?_; rintro e w' ⟨rfl, rfl⟩; rw [H.out])
  go_ret
  exact RPut.mk (by unfold U.isCp; omega) _ _ (by unfold U.wid; rw [if_pos h]) rfl (by unfold U.enc; rw [if_pos h]; show [Value.int .u8 _] = _; rw [u8_val _ (by omega)])

theorem rput_2 (c : Nat) (h1 : 128 ≤ c) (h2 : c < 2048) (w : World) : Calls Tryd.prog 74 #[.int .u32 c] w (RPut c w) := by
  have H := Lib.hid (show widthI (c : Int) = 2 by unfold widthI; rw [if_neg (by omega), if_pos (by omega)])
  go_enter Tryd.func74, Tryd.ntmps74
  go_wp2_with (go_at_call 99; refine (width_ref _ _).mono ?_; rintro e w' ⟨rfl, rfl⟩; rw [H.out])
  go_ret
  exact RPut.mk (by unfold U.isCp; omega) _ _ (by unfold U.wid; rw [if_neg (by omega), if_pos h2]) rfl
    (by unfold U.enc; rw [if_neg (by omega), if_pos h2]; show [Value.int .u8 _, Value.int .u8 _] = _; rw [u8_val _ (by omega), u8_val _ (by omega)]; simp)

theorem rput_3 (c : Nat) (h1 : 2048 ≤ c) (h2 : c < 65536) (h3 : U.isCp c) (w : World) : Calls Tryd.prog 74 #[.int .u32 c] w (RPut c w) := by
  have h4 := h3.2
  have H := Lib.hid (show widthI (c : Int) = 3 by unfold widthI; rw [if_neg (by omega), if_neg (by omega), if_neg (by omega), if_pos (by omega)])
  clear h4
  go_enter Tryd.func74, Tryd.ntmps74
  go_wp2_with (go_at_call 99; refine (width_ref _ _).mono ?_; rintro e w' ⟨rfl, rfl⟩; rw [H.out])
  go_ret
  have h4 := h3.2
  exact RPut.mk h3 _ _ (by unfold U.wid; rw [if_neg (by omega), if_neg (by omega), if_neg (by omega), if_pos h2]) rfl
    (by unfold U.enc; rw [if_neg (by omega), if_neg (by omega), if_pos h2]; show [Value.int .u8 _, Value.int .u8 _, Value.int .u8 _] = _; rw [u8_val _ (by omega), u8_val _ (by omega), u8_val _ (by omega)]; simp)

theorem rput_4 (c : Nat) (h1 : 65536 ≤ c) (h2 : c ≤ 1114111) (w : World) : Calls Tryd.prog 74 #[.int .u32 c] w (RPut c w) := by
  have H := Lib.hid (show widthI (c : Int) = 4 by unfold widthI; rw [if_neg (by omega), if_neg (by omega), if_neg (by omega), if_neg (by omega)])
  go_enter Tryd.func74, Tryd.ntmps74
  go_wp2_with (go_at_call 99; refine (width_ref _ _).mono ?_; rintro e w' ⟨rfl, rfl⟩; rw [H.out])
  go_ret
  exact RPut.mk (by unfold U.isCp; omega) _ _ (by unfold U.wid; rw [if_neg (by omega), if_neg (by omega), if_neg (by omega), if_neg (by omega)]) rfl
    (by unfold U.enc; rw [if_neg (by omega), if_neg (by omega), if_neg (by omega)]; show [Value.int .u8 _, Value.int .u8 _, Value.int .u8 _, Value.int .u8 _] = _; rw [u8_val _ (by omega), u8_val _ (by omega), u8_val _ (by omega), u8_val _ (by omega)]; simp)

theorem rput_ref (c : Nat) (hc : U.isCp c) (w : World) : Calls Tryd.prog 74 #[.int .u32 c] w (RPut c w) := by
  by_cases h1 : c < 128
  · exact rput_1 c h1 w
  · by_cases h2 : c < 2048
    · exact rput_2 c (by omega) h2 w
    · by_cases h3 : c < 65536
      · exact rput_3 c (by omega) h3 hc w
      · exact rput_4 c (by omega) hc.1 w

end Go.Proofs.YtdhnjfkpehigiaaDoor
