/- code.Fault: how many right bytes, at the most, bytes begin with. -/
import Derived.Test.YtdhnjfkpehigiaaDoorOne
namespace Go.Proofs.YtdhnjfkpehigiaaDoor
open Go.RowKit

set_option maxRecDepth 100000 in
theorem fault_code (A : Option Addr) (c n : Nat) (l : List UInt8) (w : World) (h : Rd w A c (bs l)) (hn : n = l.length) :
    Calls Tryd.prog 70 #[.slice A n c] w fun e w' => e = .returned (.int .i64 (U.fault l)) ∧ Up w w' := by
  have hf := h.fit
  have hmx := h.max
  rw [bs_len] at hf
  unfold maxLen at hmx
  have hfn : n ≤ c := by omega
  have hmn : c ≤ 9223372036854775807 := by omega
  have Hn := Lib.hid hn; clear hn
  have Hf := Lib.hid hf; clear hf hmx
  go_enter Tryd.func70, Tryd.ntmps70
  go_wp2
  go_loopw [3] (fun i wr => ∃ p : Nat, p ≤ n ∧ i = .int .i64 p ∧ Hid (U.faultAt l p = U.fault l) ∧ Up w wr) (fun i _ => n - (intOf i).toNat)
  case atStart => exact ⟨0, by omega, rfl, Lib.hid rfl, Up.refl w⟩
  case round =>
    obtain ⟨p, hp, rfl, hr, hu⟩ := hrel
    by_cases hlt : p < n
    · obtain ⟨A', hsl, hrd⟩ := (h.up hu).tail n p Hn.out (by omega)
      have hle : p + (U.one (l.drop p)).2 ≤ n := by rw [Hn.out]; exact U.one_drop_le l p (by have := Hn.out; omega)
      have hs1 := Lib.hid (fun hh => U.faultAt_step (l := l) (p := p) (by have := Hn.out; omega) hh)
      have hs2 := Lib.hid (fun hh => U.faultAt_bad (l := l) (p := p) (by have := Hn.out; omega) hh)
      have hcal : ∀ w2, Up wr w2 → Calls Tryd.prog 96 #[.slice A' (n - p) (c - p)] w2 fun e w' => e = .returned (.tuple #[.int .u32 (U.one (l.drop p)).1, .int .i64 (U.one (l.drop p)).2]) ∧ Up w2 w' :=
        fun w2 hu2 => one_code _ _ _ (l.drop p) _ (hrd.up hu2) (by rw [List.length_drop, Hn.out])
      by_cases h0 : (U.one (l.drop p)).2 = 0
      · have ht2 := Lib.hid (hs2.out h0)
        have hz0 : (U.one (l.drop p)).2 ≤ 0 := by omega
        clear h0 hs1 hs2
        generalize U.one (l.drop p) = o at *
        go_wp2_with (go_at_call 96; refine (hcal _ (Up.refl _)).mono ?_; rintro e w' ⟨rfl, hu2⟩)
        go_ret
        exact ⟨ret_int (by rw [← hr.out, ht2.out]), hu.trans hu2⟩
      · have ht1 := Lib.hid (hs1.out h0)
        have h0b : (((U.one (l.drop p)).2 : Int) == 0) = false := beq_eq_false_iff_ne.2 (by omega)
        have hpos : 0 < (U.one (l.drop p)).2 := by omega
        clear h0 hs1 hs2
        generalize U.one (l.drop p) = o at *
        go_wp2_with (go_at_call 96; refine (hcal _ (Up.refl _)).mono ?_; rintro e w' ⟨rfl, hu2⟩)
        go_roundw
        case rel => exact ⟨p + o.2, hle, by go_num, Lib.hid (by rw [← ht1.out, hr.out]), hu.trans hu2⟩
        case measure => simp [intOf]; omega
    · go_wp2
      go_ret
      exact ⟨ret_int (by rw [← hr.out, U.faultAt_end (by have := Hn.out; omega)]), hu⟩

end Go.Proofs.YtdhnjfkpehigiaaDoor
