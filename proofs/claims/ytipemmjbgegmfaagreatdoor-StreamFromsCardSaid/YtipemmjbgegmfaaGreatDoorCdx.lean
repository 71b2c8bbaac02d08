/- Cdx: one text of Pre Put One Fault Awake Rput Utg Bytes Rnum Rone Rtwo Rfault Codes Same CodesLaw Cdo. -/
import Derived.Test.YtipemmjbgegmfaaGreatDoorBas
import Derived.Outline
import Derived.Laws.RangeAny
import Derived.LoopN
import Derived.Lib.OthersKept
import Derived.WalkSmall

/- Small words about widths and sizes. -/
namespace Go.Proofs.YtipemmjbgegmfaaGreatDoor
open Go.RowKit

theorem ba_size (s : ByteArray) : s.size = s.data.toList.length := by rw [Array.length_toList]; rfl
theorem wrap32_cp {c : Int} (h0 : 0 ≤ c) (h1 : c ≤ 1114111) : wrap32 c = c := by unfold wrap32; omega
theorem widthI_wid (c : Nat) : widthI (c : Int) = (U.wid c : Int) := by
  unfold widthI U.wid; repeat' split
  all_goals omega

end Go.Proofs.YtipemmjbgegmfaaGreatDoor

/- Put: the bytes of a code point. -/
namespace Go.Proofs.YtipemmjbgegmfaaGreatDoor
open Go.RowKit

theorem put_no (c : Int) (w : World) (hw : widthI c = 0) : Calls Tryz.prog 54 #[.int .u32 c] w fun e w' => e = .returned (.tuple #[.slice none 0 0, .int .i64 2]) ∧ w = w' := by
  have H := Lib.hid hw; clear hw
  go_enter Tryz.func54, Tryz.ntmps54
  go_wp2_with (go_at_call 46; refine (width_code _ _).mono ?_; rintro e w' ⟨rfl, rfl⟩; rw [H.out])
  go_ret2
  exact ⟨rfl, rfl⟩

theorem put_code (c : Nat) (hc : U.isCp c) (w : World) : Calls Tryz.prog 54 #[.int .u32 c] w fun e w' =>
    ∃ A, e = .returned (.tuple #[.slice A (U.wid c) (U.wid c), .int .i64 0]) ∧ Rd w' A (U.wid c) (bs (U.enc c)) ∧ Up w w' := by
  have hz : (widthI c == 0) = false := by rw [widthI_wid]; have := U.wid_pos.2 hc; exact beq_eq_false_iff_ne.2 (by omega)
  have hwr : wrap32 (c : Int) = c := wrap32_cp (by omega) (by have := hc.1; omega)
  have hl := U.enc_len hc
  have hsz : (Utf8.encode (c : Int)).size = U.wid c := by
    rw [ba_size, U.encode_eq hc, hl]
  have hw4 := U.wid_le c
  obtain ⟨k, w1, hrun, hrd, hup, hlt⟩ := bytes_of w (Utf8.encode (c : Int)) (by rw [hsz]; unfold maxLen; omega)
  rw [U.encode_eq hc] at hrd
  rw [hsz] at hrun
  have hk : U.wid c ≤ k := by have := hrd.fit; rw [bs_len, hl] at this; exact this
  have hm := hrd.max
  have hpos := U.wid_pos.2 hc
  have Hl := Lib.hid hl; clear hl
  generalize U.wid c = n at *
  unfold maxLen at hm
  have HR := Lib.hid hrd; clear hrd
  go_enter Tryz.func54, Tryz.ntmps54
  go_wp2_with (go_at_call 46; refine (width_code _ _).mono ?_; rintro e w' ⟨rfl, rfl⟩)
  go_ret2
  exact ⟨_, rfl, HR.out.room (by rw [bs_len, Hl.out]; omega) (by omega) (by omega), hup⟩

end Go.Proofs.YtipemmjbgegmfaaGreatDoor

/- code.One: the code point that bytes begin with. -/
namespace Go.Proofs.YtipemmjbgegmfaaGreatDoor
open Go.RowKit

theorem ret_two {x y x' y' : Value} (h : x = x') (h2 : y = y') : Ending.returned (.tuple #[x, y]) = .returned (.tuple #[x', y']) := by rw [h, h2]
theorem up_iter (w : World) (s : ByteArray) (p : Nat) : Up w (w.iter s p) := (Up.refl w).alloc _

theorem one_code_nil (A : Option Addr) (c : Nat) (w : World) :
    Calls Tryz.prog 61 #[.slice A 0 c] w fun e w' => e = .returned (.tuple #[.int .u32 0, .int .i64 0]) ∧ Up w w' := by
  have hs0 := (Rd.zero w A).str (l := []) (n := 0) rfl
  have hend : ∀ ty, (Instr.next (.pointer (some ⟨w.heap.size, 0, none⟩)) true ty).run Tryz.prog (w.iter ⟨[].toArray⟩ 0) = _ := fun ty => run_next_end w ⟨[].toArray⟩ 0 ty (by decide)
  have hw : ((0 : Int) != widthI 0) = true := by decide
  go_enter Tryz.func61, Tryz.ntmps61
  go_wp2
  refine wp_loop_rounds 1 ?_
  rw [rounds_succ]
  go_wp2_with (go_at_call 46; refine (width_code _ _).mono ?_; rintro e w' ⟨rfl, rfl⟩)
  go_ret2
  exact ⟨ret_two rfl rfl, up_iter _ _ _⟩

set_option maxRecDepth 100000 in
/-- What One leaves, once the text of (at most) four bytes is s. -/
theorem one_walk (A : Option Addr) (c n m : Nat) (s : ByteArray) (r k : Nat) (w : World) (hc : n ≤ c) (hmx : c ≤ 9223372036854775807) (hm : (n ≤ 4 ∧ m = n) ∨ (4 < n ∧ m = 4))
    (hs0 : (convert 31 9 (.slice A m m)).run Tryz.prog w = .ok (.string s) w) (hsz : s.size = m) (hp : 0 < m) (hd : Utf8.decode s 0 = (r, k)) (hk : 0 < k) (hkm : k ≤ m) (hr : r ≤ 1114111) :
    Calls Tryz.prog 61 #[.slice A n c] w fun e w' =>
      e = .returned (if k = U.wid r then .tuple #[.int .u32 r, .int .i64 k] else .tuple #[.int .u32 0, .int .i64 0]) ∧ Up w w' := by
  have hx0 : ∀ ty, (Instr.next (.pointer (some ⟨w.heap.size, 0, none⟩)) true ty).run Tryz.prog (w.iter s 0) = .ok (.tuple #[.bool true, .int .i64 0, .int .i32 r]) (w.iter s k) := fun ty => by
    have := run_next_any (P := Tryz.prog) w s 0 ty (by omega)
    rw [hd] at this
    simpa using this
  have Hd := Lib.hid hd; clear hd
  have HW := Lib.hid (widthI_wid r)
  by_cases hw : k = U.wid r
  · rw [if_pos hw]
    have hw1 : ((k : Int) != widthI (r : Int)) = false := by rw [HW.out, ← hw]; simp
    clear hw
    by_cases hkm2 : k = m
    · obtain rfl := hkm2
      have hx1 : ∀ ty, (Instr.next (.pointer (some ⟨w.heap.size, 0, none⟩)) true ty).run Tryz.prog (w.iter s k) = .ok (.tuple #[.bool false]) (w.iter s k) := fun ty => run_next_end (P := Tryz.prog) w s k ty (by omega)
      have Hs := Lib.hid hsz; clear hsz
      rcases hm with ⟨h4, rfl⟩ | ⟨h4, rfl⟩
      all_goals
        go_enter Tryz.func61, Tryz.ntmps61
        go_wp2
        refine wp_loop_rounds 2 ?_
        rw [rounds_succ]
        go_wp2
        rw [rounds_succ]
        go_wp2_with (go_at_call 46; refine (width_code _ _).mono ?_; rintro e w' ⟨rfl, rfl⟩)
        go_ret2
        exact ⟨ret_two rfl rfl, up_iter _ _ _⟩
    · obtain ⟨x, k', hx1⟩ : ∃ (x k' : Nat), ∀ ty, (Instr.next (.pointer (some ⟨w.heap.size, 0, none⟩)) true ty).run Tryz.prog (w.iter s k) = .ok (.tuple #[.bool true, .int .i64 k, .int .i32 x]) (w.iter s k') := ⟨_, _, fun ty => run_next_any (P := Tryz.prog) w s k ty (by omega)⟩
      have Hs := Lib.hid hsz; clear hsz
      rcases hm with ⟨h4, rfl⟩ | ⟨h4, rfl⟩
      all_goals
        go_enter Tryz.func61, Tryz.ntmps61
        go_wp2
        refine wp_loop_rounds 2 ?_
        rw [rounds_succ]
        go_wp2
        rw [rounds_succ]
        go_wp2_with (go_at_call 46; refine (width_code _ _).mono ?_; rintro e w' ⟨rfl, rfl⟩)
        go_ret2
        exact ⟨ret_two rfl rfl, up_iter _ _ _⟩
  · rw [if_neg hw]
    have hw1 : ((k : Int) != widthI (r : Int)) = true := by rw [HW.out]; simp only [bne_iff_ne]; omega
    clear hw
    by_cases hkm2 : k = m
    · obtain rfl := hkm2
      have hx1 : ∀ ty, (Instr.next (.pointer (some ⟨w.heap.size, 0, none⟩)) true ty).run Tryz.prog (w.iter s k) = .ok (.tuple #[.bool false]) (w.iter s k) := fun ty => run_next_end (P := Tryz.prog) w s k ty (by omega)
      have Hs := Lib.hid hsz; clear hsz
      rcases hm with ⟨h4, rfl⟩ | ⟨h4, rfl⟩
      all_goals
        go_enter Tryz.func61, Tryz.ntmps61
        go_wp2
        refine wp_loop_rounds 2 ?_
        rw [rounds_succ]
        go_wp2
        rw [rounds_succ]
        go_wp2_with (go_at_call 46; refine (width_code _ _).mono ?_; rintro e w' ⟨rfl, rfl⟩)
        go_ret2
        exact ⟨ret_two rfl rfl, up_iter _ _ _⟩
    · obtain ⟨x, k', hx1⟩ : ∃ (x k' : Nat), ∀ ty, (Instr.next (.pointer (some ⟨w.heap.size, 0, none⟩)) true ty).run Tryz.prog (w.iter s k) = .ok (.tuple #[.bool true, .int .i64 k, .int .i32 x]) (w.iter s k') := ⟨_, _, fun ty => run_next_any (P := Tryz.prog) w s k ty (by omega)⟩
      have Hs := Lib.hid hsz; clear hsz
      rcases hm with ⟨h4, rfl⟩ | ⟨h4, rfl⟩
      all_goals
        go_enter Tryz.func61, Tryz.ntmps61
        go_wp2
        refine wp_loop_rounds 2 ?_
        rw [rounds_succ]
        go_wp2
        rw [rounds_succ]
        go_wp2_with (go_at_call 46; refine (width_code _ _).mono ?_; rintro e w' ⟨rfl, rfl⟩)
        go_ret2
        exact ⟨ret_two rfl rfl, up_iter _ _ _⟩

/-- One, of any bytes. -/
theorem one_code (A : Option Addr) (c n : Nat) (l : List UInt8) (w : World) (h : Rd w A c (bs l)) (hn : n = l.length) :
    Calls Tryz.prog 61 #[.slice A n c] w fun e w' => e = .returned (.tuple #[.int .u32 (U.one l).1, .int .i64 (U.one l).2]) ∧ Up w w' := by
  have hf := h.fit
  have hmx := h.max
  rw [bs_len] at hf
  unfold maxLen at hmx
  by_cases h0 : l = []
  · subst h0
    subst hn
    exact one_code_nil A c w
  · have hp : 0 < l.length := List.length_pos_iff.2 h0
    obtain ⟨m, hm, hmn⟩ : ∃ m : Nat, ((n ≤ 4 ∧ m = n) ∨ (4 < n ∧ m = 4)) ∧ m ≤ n := by
      by_cases h4 : n ≤ 4
      · exact ⟨n, .inl ⟨h4, rfl⟩, by omega⟩
      · exact ⟨4, .inr ⟨by omega, rfl⟩, by omega⟩
    have htk : l.take m = l.take 4 := by
      rcases hm with ⟨h4, rfl⟩ | ⟨_, rfl⟩
      · rw [List.take_of_length_le (by omega), List.take_of_length_le (by omega)]
      · rfl
    have hs0 := (h.pre (k := m) (by omega)).str (n := m) (by rw [List.length_take]; omega)
    have hd : Utf8.decode ⟨(l.take m).toArray⟩ 0 = ((U.dec l).1, (U.dec l).2) := by
      rw [U.decode_eq, List.drop_zero]
      show U.dec (l.take m) = _
      rw [htk, U.dec_take]
    refine (one_walk A c n m ⟨(l.take m).toArray⟩ (U.dec l).1 (U.dec l).2 w (by omega) (by omega) hm hs0 (by rw [ba_size]; show (l.take m).length = m; rw [List.length_take]; omega) (by omega) hd (U.dec_pos l) ?_ (U.dec_cp_le l)).mono ?_
    · have h1 := U.dec_le l (by omega)
      have h2 := U.dec_wid4 l
      omega
    · rintro e w' ⟨rfl, hu⟩
      refine ⟨?_, hu⟩
      unfold U.one
      rw [if_neg h0]
      split <;> rfl

end Go.Proofs.YtipemmjbgegmfaaGreatDoor

/- code.Fault: how many right bytes, at the most, bytes begin with. -/
namespace Go.Proofs.YtipemmjbgegmfaaGreatDoor
open Go.RowKit

set_option maxRecDepth 100000 in
theorem fault_code (A : Option Addr) (c n : Nat) (l : List UInt8) (w : World) (h : Rd w A c (bs l)) (hn : n = l.length) :
    Calls Tryz.prog 44 #[.slice A n c] w fun e w' => e = .returned (.int .i64 (U.fault l)) ∧ Up w w' := by
  have hf := h.fit
  have hmx := h.max
  rw [bs_len] at hf
  unfold maxLen at hmx
  have hfn : n ≤ c := by omega
  have hmn : c ≤ 9223372036854775807 := by omega
  have Hn := Lib.hid hn; clear hn
  have Hf := Lib.hid hf; clear hf hmx
  go_enter Tryz.func44, Tryz.ntmps44
  go_wp2
  go_loopw [3] (fun i wr => ∃ p : Nat, p ≤ n ∧ i = .int .i64 p ∧ Hid (U.faultAt l p = U.fault l) ∧ Up w wr) (fun i _ => n - (intOf i).toNat)
  case atStart => exact ⟨0, by omega, rfl, Lib.hid rfl, Up.refl w⟩
  case round =>
    obtain ⟨p, hp, rfl, hr, hu⟩ := hrel
    by_cases hlt : p < n
    · obtain ⟨A', hsl, hrd⟩ := (h.up hu).tail n p Hn.out (by omega)
      have hle : p + (U.one (l.drop p)).2 ≤ n := by rw [Hn.out]; exact U.one_drop_le l p (by have := Hn.out; omega)
      have hs1 := Lib.hid (fun hh => U.faultAt_step (l := l) (p := p) (by have := Hn.out; omega) hh)
      have hs2 := Lib.hid (fun hh => U.faultAt_bad (l := l) (p := p) (by have := Hn.out; omega) hh)
      have hcal : ∀ w2, Up wr w2 → Calls Tryz.prog 61 #[.slice A' (n - p) (c - p)] w2 fun e w' => e = .returned (.tuple #[.int .u32 (U.one (l.drop p)).1, .int .i64 (U.one (l.drop p)).2]) ∧ Up w2 w' :=
        fun w2 hu2 => one_code _ _ _ (l.drop p) _ (hrd.up hu2) (by rw [List.length_drop, Hn.out])
      by_cases h0 : (U.one (l.drop p)).2 = 0
      · have ht2 := Lib.hid (hs2.out h0)
        have hz0 : (U.one (l.drop p)).2 ≤ 0 := by omega
        clear h0 hs1 hs2
        generalize U.one (l.drop p) = o at *
        go_wp2_with (go_at_call 61; refine (hcal _ (Up.refl _)).mono ?_; rintro e w' ⟨rfl, hu2⟩)
        go_ret
        exact ⟨ret_int (by rw [← hr.out, ht2.out]), hu.trans hu2⟩
      · have ht1 := Lib.hid (hs1.out h0)
        have h0b : (((U.one (l.drop p)).2 : Int) == 0) = false := beq_eq_false_iff_ne.2 (by omega)
        have hpos : 0 < (U.one (l.drop p)).2 := by omega
        clear h0 hs1 hs2
        generalize U.one (l.drop p) = o at *
        go_wp2_with (go_at_call 61; refine (hcal _ (Up.refl _)).mono ?_; rintro e w' ⟨rfl, hu2⟩)
        go_roundw
        case rel => exact ⟨p + o.2, hle, by go_num, Lib.hid (by rw [← ht1.out, hr.out]), hu.trans hu2⟩
        case measure => simp [intOf]; omega
    · go_wp2
      go_ret
      exact ⟨ret_int (by rw [← hr.out, U.faultAt_end (by have := Hn.out; omega)]), hu⟩

end Go.Proofs.YtipemmjbgegmfaaGreatDoor

/- The closed case that each statement asks for. -/
namespace Go.Proofs.YtipemmjbgegmfaaGreatDoor
open Go.RowKit

end Go.Proofs.YtipemmjbgegmfaaGreatDoor

/- The document's Put: the bytes of a code point. -/
namespace Go.Proofs.YtipemmjbgegmfaaGreatDoor
open Go.RowKit

theorem rput_no (c : Int) (w : World) (hw : widthI c = 0) : Calls Tryz.prog 50 #[.int .u32 c] w fun e w' => e = .returned (.slice none 0 0) ∧ w = w' := by
  have H := Lib.hid hw; clear hw
  go_enter Tryz.func50, Tryz.ntmps50
  go_wp2_with (go_at_call 49; refine (width_ref _ _).mono ?_; rintro e w' ⟨rfl, rfl⟩; rw [H.out])
  go_ret
  exact ⟨rfl, rfl⟩

/-- What the document's Put leaves. -/
def RPut (c : Nat) (w : World) (e : Ending) (w' : World) : Prop :=
  ∃ A, e = .returned (.slice A (U.wid c) (U.wid c)) ∧ Rd w' A (U.wid c) (bs (U.enc c)) ∧ Up w w'

theorem RPut.mk {c : Nat} (hc : U.isCp c) {w : World} {v : Value} {n : Nat} (cs : Array Value) (t : TypeId) (hn : n = U.wid c) (hv : v = .slice (some ⟨w.heap.size, 0, none⟩) n n) (hcs : bs (U.enc c) = cs.toList) :
    RPut c w (.returned v) (w.alloc (.cells cs t)) := by
  subst hn hv
  have := U.wid_le c
  exact ⟨_, rfl, Rd.new w cs t hcs (by rw [bs_len, U.enc_len hc]) (by unfold maxLen; omega), (Up.refl w).alloc _⟩

theorem u8_val (n : Nat) (h : n < 256) : Value.int .u8 ((UInt8.ofNat n).toNat : Int) = .int .u8 (n : Int) := by rw [U.toNat_of n h]

theorem rput_1 (c : Nat) (h : c < 128) (w : World) : Calls Tryz.prog 50 #[.int .u32 c] w (RPut c w) := by
  have H := Lib.hid (show widthI (c : Int) = 1 by unfold widthI; rw [if_pos (by omega)])
  go_enter Tryz.func50, Tryz.ntmps50
  go_wp2_with (go_at_call 49; refine (width_ref _ _).mono ?_; rintro e w' ⟨rfl, rfl⟩; rw [H.out])
  go_ret
  exact RPut.mk (by unfold U.isCp; omega) _ _ (by unfold U.wid; rw [if_pos h]) rfl (by unfold U.enc; rw [if_pos h]; show [Value.int .u8 _] = _; rw [u8_val _ (by omega)])

theorem rput_2 (c : Nat) (h1 : 128 ≤ c) (h2 : c < 2048) (w : World) : Calls Tryz.prog 50 #[.int .u32 c] w (RPut c w) := by
  have H := Lib.hid (show widthI (c : Int) = 2 by unfold widthI; rw [if_neg (by omega), if_pos (by omega)])
  go_enter Tryz.func50, Tryz.ntmps50
  go_wp2_with (go_at_call 49; refine (width_ref _ _).mono ?_; rintro e w' ⟨rfl, rfl⟩; rw [H.out])
  go_ret
  exact RPut.mk (by unfold U.isCp; omega) _ _ (by unfold U.wid; rw [if_neg (by omega), if_pos h2]) rfl
    (by unfold U.enc; rw [if_neg (by omega), if_pos h2]; show [Value.int .u8 _, Value.int .u8 _] = _; rw [u8_val _ (by omega), u8_val _ (by omega)]; simp)

theorem rput_3 (c : Nat) (h1 : 2048 ≤ c) (h2 : c < 65536) (h3 : U.isCp c) (w : World) : Calls Tryz.prog 50 #[.int .u32 c] w (RPut c w) := by
  have h4 := h3.2
  have H := Lib.hid (show widthI (c : Int) = 3 by unfold widthI; rw [if_neg (by omega), if_neg (by omega), if_neg (by omega), if_pos (by omega)])
  clear h4
  go_enter Tryz.func50, Tryz.ntmps50
  go_wp2_with (go_at_call 49; refine (width_ref _ _).mono ?_; rintro e w' ⟨rfl, rfl⟩; rw [H.out])
  go_ret
  have h4 := h3.2
  exact RPut.mk h3 _ _ (by unfold U.wid; rw [if_neg (by omega), if_neg (by omega), if_neg (by omega), if_pos h2]) rfl
    (by unfold U.enc; rw [if_neg (by omega), if_neg (by omega), if_pos h2]; show [Value.int .u8 _, Value.int .u8 _, Value.int .u8 _] = _; rw [u8_val _ (by omega), u8_val _ (by omega), u8_val _ (by omega)]; simp)

theorem rput_4 (c : Nat) (h1 : 65536 ≤ c) (h2 : c ≤ 1114111) (w : World) : Calls Tryz.prog 50 #[.int .u32 c] w (RPut c w) := by
  have H := Lib.hid (show widthI (c : Int) = 4 by unfold widthI; rw [if_neg (by omega), if_neg (by omega), if_neg (by omega), if_neg (by omega)])
  go_enter Tryz.func50, Tryz.ntmps50
  go_wp2_with (go_at_call 49; refine (width_ref _ _).mono ?_; rintro e w' ⟨rfl, rfl⟩; rw [H.out])
  go_ret
  exact RPut.mk (by unfold U.isCp; omega) _ _ (by unfold U.wid; rw [if_neg (by omega), if_neg (by omega), if_neg (by omega), if_neg (by omega)]) rfl
    (by unfold U.enc; rw [if_neg (by omega), if_neg (by omega), if_neg (by omega)]; show [Value.int .u8 _, Value.int .u8 _, Value.int .u8 _, Value.int .u8 _] = _; rw [u8_val _ (by omega), u8_val _ (by omega), u8_val _ (by omega), u8_val _ (by omega)]; simp)

theorem rput_ref (c : Nat) (hc : U.isCp c) (w : World) : Calls Tryz.prog 50 #[.int .u32 c] w (RPut c w) := by
  by_cases h1 : c < 128
  · exact rput_1 c h1 w
  · by_cases h2 : c < 2048
    · exact rput_2 c (by omega) h2 w
    · by_cases h3 : c < 65536
      · exact rput_3 c (by omega) h3 hc w
      · exact rput_4 c (by omega) hc.1 w

end Go.Proofs.YtipemmjbgegmfaaGreatDoor

/- UTF-8, plain: texts of code points, one behind the other; where the first fault stands. -/
namespace Go.Proofs.YtipemmjbgegmfaaGreatDoor.U

def encs (cs : List Nat) : List UInt8 := cs.flatMap enc
def Cps (cs : List Nat) : Prop := ∀ c ∈ cs, isCp c
instance (cs : List Nat) : Decidable (Cps cs) := by unfold Cps; exact inferInstance

theorem encs_nil : encs [] = [] := rfl
theorem encs_cons (c : Nat) (cs : List Nat) : encs (c :: cs) = enc c ++ encs cs := by simp [encs]
theorem encs_append (cs ds : List Nat) : encs (cs ++ ds) = encs cs ++ encs ds := by simp [encs]
theorem Cps.tail {c : Nat} {cs : List Nat} (h : Cps (c :: cs)) : Cps cs := fun x hx => h x (List.mem_cons_of_mem _ hx)
theorem Cps.head {c : Nat} {cs : List Nat} (h : Cps (c :: cs)) : isCp c := h c List.mem_cons_self
theorem Cps.append {cs ds : List Nat} (h : Cps cs) (k : Cps ds) : Cps (cs ++ ds) := fun x hx => by
  rcases List.mem_append.1 hx with h1 | h1
  · exact h x h1
  · exact k x h1

theorem enc_pos {c : Nat} (h : isCp c) : 0 < (enc c).length := by rw [enc_len h]; exact wid_pos.2 h

/-- Any bytes are those of code points, and a rest that begins with none. -/
theorem split (l : List UInt8) : ∃ cs r, Cps cs ∧ l = encs cs ++ r ∧ (one r).2 = 0 := by
  have key : ∀ (n : Nat) (l : List UInt8), l.length ≤ n → ∃ cs r, Cps cs ∧ l = encs cs ++ r ∧ (one r).2 = 0 := by
    intro n
    induction n with
    | zero =>
      intro l hl
      have : l = [] := List.eq_nil_of_length_eq_zero (by omega)
      subst this
      exact ⟨[], [], (fun _ h => by cases h), rfl, rfl⟩
    | succ n ih =>
      intro l hl
      by_cases h0 : (one l).2 = 0
      · exact ⟨[], l, (fun _ h => by cases h), rfl, h0⟩
      · obtain ⟨h1, h2, h3⟩ := one_spec h0
        have hp := wid_pos.2 h1
        obtain ⟨cs, r, hc, he, hr⟩ := ih (l.drop (one l).2) (by rw [List.length_drop]; omega)
        refine ⟨(one l).1 :: cs, r, ?_, ?_, hr⟩
        · intro x hx
          rcases List.mem_cons.1 hx with rfl | hx
          · exact h1
          · exact hc x hx
        · rw [encs_cons, List.append_assoc, ← he]
          exact h3
  exact key l.length l (Nat.le_refl _)

theorem faultAt_shift (c : Nat) (h : isCp c) (pre r : List UInt8) : faultAt (pre ++ (enc c ++ r)) pre.length = faultAt (pre ++ (enc c ++ r)) (pre.length + (enc c).length) := by
  have hd : (pre ++ (enc c ++ r)).drop pre.length = enc c ++ r := List.drop_left
  have h1 := one_enc h r
  have hp := wid_pos.2 h
  have hl := enc_len h
  have hlt : pre.length < (pre ++ (enc c ++ r)).length := by simp only [List.length_append]; omega
  rw [faultAt_step hlt (by rw [hd, h1]; show wid c ≠ 0; omega), hd, h1]
  show faultAt _ (pre.length + wid c) = _
  rw [hl]

theorem faultAt_encs : ∀ (cs : List Nat), Cps cs → ∀ pre r : List UInt8, faultAt (pre ++ (encs cs ++ r)) pre.length = faultAt (pre ++ (encs cs ++ r)) (pre.length + (encs cs).length)
  | [], _, pre, r => by simp [encs]
  | c :: cs, h, pre, r => by
    have e : pre ++ (encs (c :: cs) ++ r) = (pre ++ enc c) ++ (encs cs ++ r) := by rw [encs_cons]; simp
    have e2 : pre ++ (encs (c :: cs) ++ r) = pre ++ (enc c ++ (encs cs ++ r)) := by rw [encs_cons]; simp
    rw [e2, faultAt_shift c h.head pre (encs cs ++ r), ← e2, e]
    have := faultAt_encs cs h.tail (pre ++ enc c) r
    rw [List.length_append] at this
    rw [this, encs_cons, List.length_append, Nat.add_assoc]

/-- Where right bytes end, the rest beginning with no code point: there the fault stands. -/
theorem fault_at {cs : List Nat} (h : Cps cs) {r : List UInt8} (hr : (one r).2 = 0) : fault (encs cs ++ r) = if r = [] then -1 else ((encs cs).length : Int) := by
  have := faultAt_encs cs h [] r
  simp only [List.nil_append, List.length_nil, Nat.zero_add] at this
  unfold fault
  rw [this]
  by_cases h0 : r = []
  · subst h0
    rw [if_pos rfl, List.append_nil]
    exact faultAt_end (Nat.le_refl _)
  · rw [if_neg h0]
    have hp : 0 < r.length := List.length_pos_iff.2 h0
    exact faultAt_bad (by rw [List.length_append]; omega) (by rw [List.drop_left]; exact hr)

theorem fault_encs {cs : List Nat} (h : Cps cs) : fault (encs cs) = -1 := by
  have := fault_at h (r := []) rfl
  simpa using this

/-- Bytes without a fault are those of code points. -/
theorem right_of {l : List UInt8} (h : fault l < 0) : ∃ cs, Cps cs ∧ l = encs cs := by
  obtain ⟨cs, r, hc, he, hr⟩ := split l
  rw [he, fault_at hc hr] at h
  by_cases h0 : r = []
  · subst h0
    exact ⟨cs, hc, by simpa using he⟩
  · rw [if_neg h0] at h
    omega

theorem fault_ge (l : List UInt8) : -1 ≤ fault l ∧ fault l ≤ l.length := by
  obtain ⟨cs, r, hc, he, hr⟩ := split l
  rw [he, fault_at hc hr, List.length_append]
  split <;> omega

/-- Two texts, one behind the other. -/
theorem fault_append (a b : List UInt8) : (fault a < 0 → fault b < 0 → fault (a ++ b) = -1) ∧ (fault a < 0 → 0 ≤ fault b → fault (a ++ b) = a.length + fault b) ∧
    (0 ≤ fault a → fault a ≤ fault (a ++ b) ∨ fault (a ++ b) = -1) := by
  obtain ⟨cs, r, hc, he, hr⟩ := split a
  obtain ⟨ds, s, hd, hf, hs⟩ := split b
  have ha := fault_at hc hr
  have hb := fault_at hd hs
  rw [← he] at ha
  rw [← hf] at hb
  refine ⟨fun h1 h2 => ?_, fun h1 h2 => ?_, fun h1 => ?_⟩
  · obtain ⟨cs, hc, rfl⟩ := right_of h1
    obtain ⟨ds, hd, rfl⟩ := right_of h2
    rw [← encs_append]
    exact fault_encs (hc.append hd)
  · obtain ⟨cs, hc, rfl⟩ := right_of h1
    have hs0 : s ≠ [] := fun e => by rw [if_pos e] at hb; omega
    rw [if_neg hs0] at hb
    rw [hb, hf, ← List.append_assoc, ← encs_append, fault_at (hc.append hd) hs, if_neg hs0, encs_append, List.length_append]
    omega
  · have hr0 : r ≠ [] := fun e => by rw [if_pos e] at ha; omega
    rw [if_neg hr0] at ha
    obtain ⟨es, t, hes, ht, ht0⟩ := split (r ++ b)
    have e : a ++ b = encs (cs ++ es) ++ t := by rw [he, encs_append, List.append_assoc, List.append_assoc, ht]
    rw [e, fault_at (hc.append hes) ht0, ha]
    by_cases h0 : t = []
    · rw [if_pos h0]; exact .inr rfl
    · rw [if_neg h0, encs_append, List.length_append]; left; omega

/-- No two lists of code points have the same bytes. -/
theorem encs_inj : ∀ {cs ds : List Nat}, Cps cs → Cps ds → encs cs = encs ds → cs = ds
  | [], [], _, _, _ => rfl
  | [], d :: ds, _, hd, h => by
    have := congrArg List.length h
    rw [encs_nil, encs_cons, List.length_append, List.length_nil] at this
    have := enc_pos hd.head
    omega
  | c :: cs, [], hc, _, h => by
    have := congrArg List.length h
    rw [encs_nil, encs_cons, List.length_append, List.length_nil] at this
    have := enc_pos hc.head
    omega
  | c :: cs, d :: ds, hc, hd, h => by
    rw [encs_cons, encs_cons] at h
    have h1 := one_enc hc.head (encs cs)
    have h2 := one_enc hd.head (encs ds)
    rw [h] at h1
    rw [h1] at h2
    have e : c = d := (Prod.mk.inj h2).1
    subst e
    rw [encs_inj hc.tail hd.tail (List.append_cancel_left h)]

theorem encs_len_le (cs : List Nat) (h : Cps cs) : cs.length ≤ (encs cs).length := by
  induction cs with
  | nil => simp
  | cons c cs ih =>
    have := ih h.tail
    have := enc_pos h.head
    rw [encs_cons, List.length_append, List.length_cons]
    omega
theorem encs_len_4 (cs : List Nat) (h : Cps cs) : (encs cs).length ≤ 4 * cs.length := by
  induction cs with
  | nil => simp [encs]
  | cons c cs ih =>
    have := ih h.tail
    have := wid_le c
    have := enc_len h.head
    rw [encs_cons, List.length_append, List.length_cons]
    omega

theorem enc_at {c : Nat} (h : isCp c) (k : Nat) (hk : k < (enc c).length) : (k = 0 → (enc c)[k].toNat < 128 ∨ 191 < (enc c)[k].toNat) ∧ (1 ≤ k → 128 ≤ (enc c)[k].toNat ∧ (enc c)[k].toNat ≤ 191) := by
  have hc := h.1
  by_cases h1 : c < 128
  · have e : enc c = [UInt8.ofNat c] := by unfold enc; rw [if_pos h1]
    simp only [e, List.length_cons, List.length_nil] at hk ⊢
    obtain rfl : k = 0 := by omega
    refine ⟨fun _ => .inl ?_, fun h => absurd h (by omega)⟩
    show (UInt8.ofNat c).toNat < 128
    rw [toNat_of _ (by omega)]; omega
  · by_cases h2 : c < 2048
    · have e : enc c = [UInt8.ofNat (192 + c / 64), UInt8.ofNat (128 + c % 64)] := by unfold enc; rw [if_neg h1, if_pos h2]
      simp only [e, List.length_cons, List.length_nil] at hk ⊢
      rcases k with _ | _ | k
      · exact ⟨fun _ => .inr (by show 191 < (UInt8.ofNat (192 + c / 64)).toNat; rw [toNat_of _ (by omega)]; omega), fun h => absurd h (by omega)⟩
      · exact ⟨fun h => absurd h (by omega), fun _ => by show 128 ≤ (UInt8.ofNat (128 + c % 64)).toNat ∧ (UInt8.ofNat (128 + c % 64)).toNat ≤ 191; rw [toNat_of _ (by omega)]; omega⟩
      · omega
    · by_cases h3 : c < 65536
      · have e : enc c = [UInt8.ofNat (224 + c / 4096), UInt8.ofNat (128 + c / 64 % 64), UInt8.ofNat (128 + c % 64)] := by unfold enc; rw [if_neg h1, if_neg h2, if_pos h3]
        simp only [e, List.length_cons, List.length_nil] at hk ⊢
        rcases k with _ | _ | _ | k
        · exact ⟨fun _ => .inr (by show 191 < (UInt8.ofNat (224 + c / 4096)).toNat; rw [toNat_of _ (by omega)]; omega), fun h => absurd h (by omega)⟩
        · exact ⟨fun h => absurd h (by omega), fun _ => by show 128 ≤ (UInt8.ofNat (128 + c / 64 % 64)).toNat ∧ (UInt8.ofNat (128 + c / 64 % 64)).toNat ≤ 191; rw [toNat_of _ (by omega)]; omega⟩
        · exact ⟨fun h => absurd h (by omega), fun _ => by show 128 ≤ (UInt8.ofNat (128 + c % 64)).toNat ∧ (UInt8.ofNat (128 + c % 64)).toNat ≤ 191; rw [toNat_of _ (by omega)]; omega⟩
        · omega
      · have e : enc c = [UInt8.ofNat (240 + c / 262144), UInt8.ofNat (128 + c / 4096 % 64), UInt8.ofNat (128 + c / 64 % 64), UInt8.ofNat (128 + c % 64)] := by unfold enc; rw [if_neg h1, if_neg h2, if_neg h3]
        simp only [e, List.length_cons, List.length_nil] at hk ⊢
        rcases k with _ | _ | _ | _ | k
        · exact ⟨fun _ => .inr (by show 191 < (UInt8.ofNat (240 + c / 262144)).toNat; rw [toNat_of _ (by omega)]; omega), fun h => absurd h (by omega)⟩
        · exact ⟨fun h => absurd h (by omega), fun _ => by show 128 ≤ (UInt8.ofNat (128 + c / 4096 % 64)).toNat ∧ (UInt8.ofNat (128 + c / 4096 % 64)).toNat ≤ 191; rw [toNat_of _ (by omega)]; omega⟩
        · exact ⟨fun h => absurd h (by omega), fun _ => by show 128 ≤ (UInt8.ofNat (128 + c / 64 % 64)).toNat ∧ (UInt8.ofNat (128 + c / 64 % 64)).toNat ≤ 191; rw [toNat_of _ (by omega)]; omega⟩
        · exact ⟨fun h => absurd h (by omega), fun _ => by show 128 ≤ (UInt8.ofNat (128 + c % 64)).toNat ∧ (UInt8.ofNat (128 + c % 64)).toNat ≤ 191; rw [toNat_of _ (by omega)]; omega⟩
        · omega

/-- Bytes that begin with those of ds: so do the code points. -/
theorem pre_of : ∀ {ds l : List Nat} {r : List UInt8}, Cps ds → Cps l → encs ds ++ r = encs l → ∃ l', l = ds ++ l' ∧ r = encs l'
  | [], l, r, _, _, h => ⟨l, rfl, by simpa [encs] using h⟩
  | d :: ds, [], r, hd, _, h => by
    have := congrArg List.length h
    have := enc_pos hd.head
    rw [encs_cons, encs_nil] at *
    simp only [List.length_append, List.length_nil] at *
    omega
  | d :: ds, c :: l, r, hd, hl, h => by
    rw [encs_cons, encs_cons, List.append_assoc] at h
    have h1 := one_enc hd.head (encs ds ++ r)
    have h2 := one_enc hl.head (encs l)
    rw [h, h2] at h1
    have e : c = d := (Prod.mk.inj h1).1
    subst e
    obtain ⟨l', rfl, hr⟩ := pre_of hd.tail hl.tail (List.append_cancel_left h)
    exact ⟨l', rfl, hr⟩

/-- Bytes that end with those of code points: what stands ahead is right, too. -/
theorem suf_of {ds l : List Nat} {t : List UInt8} (hd : Cps ds) (hl : Cps l) (h : t ++ encs ds = encs l) : ∃ cs l', l = cs ++ l' ∧ t = encs cs := by
  obtain ⟨cs, r, hc, rfl, hr⟩ := split t
  rw [List.append_assoc] at h
  obtain ⟨l', rfl, h2⟩ := pre_of hc hl h
  have hl' : Cps l' := fun x hx => hl x (List.mem_append.2 (.inr hx))
  by_cases h0 : r = []
  · subst h0
    exact ⟨cs, l', rfl, by simp⟩
  · exfalso
    have hrp : 0 < r.length := List.length_pos_iff.2 h0
    cases l' with
    | nil =>
      have := congrArg List.length h2
      rw [encs_nil, List.length_append, List.length_nil] at this
      omega
    | cons c l' =>
      rw [encs_cons] at h2
      have hcp := hl'.head
      by_cases hle : (enc c).length ≤ r.length
      · have e : r = enc c ++ r.drop (enc c).length := by
          have h3 := congrArg (List.take (enc c).length) h2
          rw [List.take_append_of_le_length hle, List.take_left] at h3
          conv => lhs; rw [← List.take_append_drop (enc c).length r, h3]
        have h4 := one_enc hcp (r.drop (enc c).length)
        rw [← e] at h4
        rw [h4] at hr
        have := wid_pos.2 hcp
        have h8 : wid c = 0 := hr
        omega
      · have hlt : r.length < (enc c).length := by omega
        have h3 : (enc c)[r.length]? = (encs ds)[0]? := by
          have h5 := congrArg (fun x : List UInt8 => x[r.length]?) h2
          rw [List.getElem?_append_right (Nat.le_refl _), List.getElem?_append_left hlt, Nat.sub_self] at h5
          exact h5.symm
        rw [List.getElem?_eq_getElem hlt] at h3
        cases ds with
        | nil => simp [encs] at h3
        | cons d ds =>
          have hdp := enc_pos hd.head
          rw [encs_cons, List.getElem?_append_left hdp, List.getElem?_eq_getElem hdp] at h3
          injection h3 with h3
          have h6 := (enc_at hcp r.length hlt).2 hrp
          have h7 := (enc_at hd.head 0 hdp).1 rfl
          rw [← h3] at h7
          omega

/-- Where right bytes can be cut. -/
theorem cut_of {l : List Nat} (hl : Cps l) {k : Nat} : (fault ((encs l).take k) < 0 ∨ fault ((encs l).drop k) < 0) → k ≤ (encs l).length → ∃ j, j ≤ l.length ∧ (encs (l.take j)).length = k := by
  intro h hk
  rcases h with h | h
  · obtain ⟨ds, hd, he⟩ := right_of h
    obtain ⟨l', rfl, _⟩ := pre_of (r := (encs l).drop k) hd hl (by rw [← he, List.take_append_drop])
    refine ⟨ds.length, by simp, ?_⟩
    rw [List.take_left]
    have := congrArg List.length he
    rw [List.length_take] at this
    omega
  · obtain ⟨ds, hd, he⟩ := right_of h
    obtain ⟨cs, l', rfl, h2⟩ := suf_of (t := (encs l).take k) hd hl (by rw [← he, List.take_append_drop])
    refine ⟨cs.length, by simp, ?_⟩
    rw [List.take_left]
    have := congrArg List.length h2
    rw [List.length_take] at this
    omega
theorem cut_at {l : List Nat} {j : Nat} : (encs l).take (encs (l.take j)).length = encs (l.take j) ∧ (encs l).drop (encs (l.take j)).length = encs (l.drop j) := by
  have e : encs l = encs (l.take j) ++ encs (l.drop j) := by rw [← encs_append, List.take_append_drop]
  constructor
  · conv => lhs; rw [e]
    exact List.take_left
  · conv => lhs; rw [e]
    exact List.drop_left

end Go.Proofs.YtipemmjbgegmfaaGreatDoor.U

/- code.Bytes and the document's Bytes: the bytes of numbers, one behind the other. -/
namespace Go.Proofs.YtipemmjbgegmfaaGreatDoor
open Go.RowKit

theorem Up.grownBy {w w' : World} (h : Up w w') : w.grownBy w' none := ⟨h.os, h.tape, h.output, h.size, fun k hk _ => h.block k hk⟩
theorem Up.grown {w wr w' : World} {row : Option Nat} (h : Up w wr) (hg : wr.grownBy w' row) (hr : ∀ k, row = some k → w.heap.size ≤ k) : Up w w' := Below.grown h hg h.size hr

/-- What both leave. -/
def BytesP (l : List Nat) (w : World) (e : Ending) (w' : World) : Prop :=
  Up w w' ∧ ((U.Cps l ∧ ∃ A c, e = .returned (.tuple #[.slice A (U.encs l).length c, .int .i64 0]) ∧ w'.ownsRow w.heap.size 5 1 (.slice A (U.encs l).length c) (U.encs l).length (bs (U.encs l))) ∨
    (¬ U.Cps l ∧ e = .returned (.tuple #[.slice none 0 0, .int .i64 2])))

theorem U.take_snoc {l : List Nat} {k : Nat} (h : k < l.length) : l.take (k + 1) = l.take k ++ [l[k]] := by
  rw [List.take_succ_eq_append_getElem h]
theorem U.encs_snoc {l : List Nat} {k : Nat} (h : k < l.length) : U.encs (l.take (k + 1)) = U.encs (l.take k) ++ U.enc l[k] := by
  rw [U.take_snoc h, U.encs_append]; simp [U.encs]
theorem U.Cps_snoc {l : List Nat} {k : Nat} (h : k < l.length) (h1 : U.Cps (l.take k)) (h2 : U.isCp l[k]) : U.Cps (l.take (k + 1)) := by
  rw [U.take_snoc h]
  exact h1.append fun x hx => by rw [List.mem_singleton.1 hx]; exact h2
theorem U.not_Cps {l : List Nat} {k : Nat} (h : k < l.length) (h2 : ¬ U.isCp l[k]) : ¬ U.Cps l := fun hh => h2 (hh _ (List.getElem_mem h))

set_option maxRecDepth 100000 in
set_option maxHeartbeats 400000 in
theorem bytes_code (A : Option Addr) (c n : Nat) (l : List Nat) (w : World) (h : Rd w A c (us l)) (hn : n = l.length) (hb : n * 4 ≤ 140737488351232) :
    Calls Tryz.prog 38 #[.slice A n c] w (BytesP l w) := by
  have hf := h.fit
  rw [us_len] at hf
  have hfn : n ≤ c := by omega
  have hnm : n ≤ 35184372087808 := by omega
  have hmx := h.max
  unfold maxLen at hmx
  have hcm : c ≤ 9223372036854775807 := by omega
  have Hn := Lib.hid hn
  have H := Lib.hid h
  clear hf hn hb h hmx
  go_enter Tryz.func38, Tryz.ntmps38
  go_wp2
  go_loopw [4, 11] (fun v i wr => ∃ k : Nat, k ≤ n ∧ i = .int .i64 k ∧ Up w wr ∧ Hid (U.Cps (l.take k)) ∧ wr.ownsRow w.heap.size 5 1 v (U.encs (l.take k)).length (bs (U.encs (l.take k)))) (fun _ i _ => n - (intOf i).toNat)
  case atStart => exact ⟨0, by omega, rfl, Up.refl w, Lib.hid (fun c hc => by cases hc), World.ownsRow_nil w _ _ 1⟩
  case round =>
    obtain ⟨k, hk, rfl, hu, hcp, hown⟩ := hrel
    obtain ⟨B, d, rfl, hrv⟩ := own_rd hown
    have HO := Lib.hid hown
    clear hown hrv
    by_cases hlt : k < n
    · have hkl : k < l.length := by rw [← Hn.out]; exact hlt
      obtain ⟨a, rfl, _⟩ := H.out.ad (by omega)
      have hcell : wr.cell? (a.add k) = some (.int .u32 (l[k] : Int)) := (H.out.up hu).cell a rfl k _ (us_get l k hkl)
      have S1 := Lib.hid (U.encs_snoc hkl)
      have S2 := Lib.hid (fun h1 h2 => U.Cps_snoc hkl h1 h2)
      have S3 := Lib.hid (fun h2 => U.not_Cps hkl h2)
      have HL := Lib.hid (show (U.encs (l.take k)).length ≤ 4 * k ∧ k ≤ l.length by
        have h1 := U.encs_len_4 (l.take k) hcp.out
        rw [List.length_take] at h1
        omega)
      generalize l[k] = x at *
      by_cases hx : U.isCp x
      · have hpc := put_code x hx wr
        have HX := Lib.hid (U.enc_len hx)
        have Hx := Lib.hid hx
        clear hx
        go_wp2_with fail
        refine hpc.mono ?_
        rintro e w1 ⟨A1, rfl, hrd1, hu1⟩
        obtain ⟨v', w2, hap, hown2, hg, _⟩ := elB.app (m := U.wid x) w1 31 (own_up HO.out hu1) hrd1 (by rw [bs_len, HX.out]) (one_bs _) (by have := HL.out; have := U.wid_le x; omega) (by omega) (Nat.le_trans hu.size hu1.size)
        have hu3 : Up w w2 := (hu.trans hu1).grown hg (fun g hg => ((own_up HO.out hu1).lt g hg).1)
        have HA := Lib.hid hap
        have HO2 := Lib.hid hown2
        clear hap hown2 hg hpc hrd1
        go_wp2_with (at_builtin; refine wpList_app rfl _ _ _ rfl rfl rfl HA.out ?_)
        go_roundw
        case rel =>
          refine ⟨k + 1, by omega, by go_num, hu3, Lib.hid (S2.out hcp.out Hx.out), ?_⟩
          rw [S1.out, List.length_append, HX.out, bs_append]
          exact HO2.out
        case measure => simp [intOf]; omega
      · have hz : U.wid x = 0 := Nat.eq_zero_of_not_pos (fun h' => hx (U.wid_pos.1 h'))
        have hpc := put_no x wr (by rw [widthI_wid, hz]; rfl)
        have HN := Lib.hid (S3.out hx)
        clear hx hz
        go_wp2_with fail
        refine hpc.mono ?_
        rintro e w1 ⟨rfl, rfl⟩
        go_wp2_with fail
        go_ret2
        exact ⟨hu, .inr ⟨HN.out, rfl⟩⟩
    · have hkn : k = n := by omega
      have HK := Lib.hid hkn
      clear hkn
      go_wp2_with fail
      go_ret2
      have e : l.take k = l := List.take_of_length_le (by rw [HK.out, Hn.out]; exact Nat.le_refl _)
      have h1 := HO.out
      have h2 := hcp.out
      rw [e] at h1 h2
      exact ⟨hu, .inl ⟨h2, B, d, ret_two (by rw [e]; rfl) rfl, h1⟩⟩

theorem isB_of {c : Nat} (hc : U.isCp c) : isB (c : Int) = true := by have h1 := hc.1; have h2 := hc.2; unfold isB; simp; omega
theorem isB_not {c : Nat} (hc : ¬ U.isCp c) : isB (c : Int) = false := by unfold U.isCp at hc; unfold isB; simp; omega

set_option maxRecDepth 100000 in
set_option maxHeartbeats 400000 in
theorem bytes_ref (A : Option Addr) (c n : Nat) (l : List Nat) (w : World) (h : Rd w A c (us l)) (hn : n = l.length) (hb : n * 4 ≤ 140737488351232) :
    Calls Tryz.prog 35 #[.slice A n c] w (BytesP l w) := by
  have hf := h.fit
  rw [us_len] at hf
  have hfn : n ≤ c := by omega
  have hnm : n ≤ 35184372087808 := by omega
  have hmx := h.max
  unfold maxLen at hmx
  have hcm : c ≤ 9223372036854775807 := by omega
  have Hn := Lib.hid hn
  have H := Lib.hid h
  clear hf hn hb h hmx
  go_enter Tryz.func35, Tryz.ntmps35
  go_wp2
  go_loopw [4, 5] (fun v i wr => ∃ k : Nat, k ≤ n ∧ i = .int .i64 k ∧ Up w wr ∧ Hid (U.Cps (l.take k)) ∧ wr.ownsRow w.heap.size 5 1 v (U.encs (l.take k)).length (bs (U.encs (l.take k)))) (fun _ i _ => n - (intOf i).toNat)
  case atStart => exact ⟨0, by omega, rfl, Up.refl w, Lib.hid (fun c hc => by cases hc), World.ownsRow_nil w _ _ 1⟩
  case round =>
    obtain ⟨k, hk, rfl, hu, hcp, hown⟩ := hrel
    obtain ⟨B, d, rfl, hrv⟩ := own_rd hown
    have HO := Lib.hid hown
    clear hown hrv
    by_cases hlt : k < n
    · have hkl : k < l.length := by rw [← Hn.out]; exact hlt
      obtain ⟨a, rfl, _⟩ := H.out.ad (by omega)
      have hcell : wr.cell? (a.add k) = some (.int .u32 (l[k] : Int)) := (H.out.up hu).cell a rfl k _ (us_get l k hkl)
      have S1 := Lib.hid (U.encs_snoc hkl)
      have S2 := Lib.hid (fun h1 h2 => U.Cps_snoc hkl h1 h2)
      have S3 := Lib.hid (fun h2 => U.not_Cps hkl h2)
      have HL := Lib.hid (show (U.encs (l.take k)).length ≤ 4 * k ∧ k ≤ l.length by
        have h1 := U.encs_len_4 (l.take k) hcp.out
        rw [List.length_take] at h1
        omega)
      generalize l[k] = x at *
      by_cases hx : U.isCp x
      · have hB := isB_of hx
        have HX := Lib.hid (U.enc_len hx)
        have Hx := Lib.hid hx
        clear hx
        go_wp2_with fail
        refine (is_ref _ _).mono ?_
        rintro e w1 ⟨rfl, rfl⟩
        go_wp2_with fail
        refine (rput_ref x Hx.out wr).mono ?_
        rintro e w1 ⟨A1, rfl, hrd1, hu1⟩
        obtain ⟨v', w2, hap, hown2, hg, _⟩ := elB.app (m := U.wid x) w1 31 (own_up HO.out hu1) hrd1 (by rw [bs_len, HX.out]) (one_bs _) (by have := HL.out; have := U.wid_le x; omega) (by omega) (Nat.le_trans hu.size hu1.size)
        have hu3 : Up w w2 := (hu.trans hu1).grown hg (fun g hg => ((own_up HO.out hu1).lt g hg).1)
        have HA := Lib.hid hap
        have HO2 := Lib.hid hown2
        clear hap hown2 hg hrd1
        go_wp2_with (at_builtin; refine wpList_app rfl _ _ _ rfl rfl rfl HA.out ?_)
        go_roundw
        case rel =>
          refine ⟨k + 1, by omega, by go_num, hu3, Lib.hid (S2.out hcp.out Hx.out), ?_⟩
          rw [S1.out, List.length_append, HX.out, bs_append]
          exact HO2.out
        case measure => simp [intOf]; omega
      · have hB := isB_not hx
        have HN := Lib.hid (S3.out hx)
        clear hx
        go_wp2_with fail
        refine (is_ref _ _).mono ?_
        rintro e w1 ⟨rfl, rfl⟩
        go_wp2_with fail
        go_ret2
        exact ⟨hu, .inr ⟨HN.out, rfl⟩⟩
    · have hkn : k = n := by omega
      have HK := Lib.hid hkn
      clear hkn
      go_wp2_with fail
      go_ret2
      have e : l.take k = l := List.take_of_length_le (by rw [HK.out, Hn.out]; exact Nat.le_refl _)
      have h1 := HO.out
      have h2 := hcp.out
      rw [e] at h1 h2
      exact ⟨hu, .inl ⟨h2, B, d, ret_two (by rw [e]; rfl) rfl, h1⟩⟩

end Go.Proofs.YtipemmjbgegmfaaGreatDoor

/- The document's number: what so many bytes would stand for. -/
namespace Go.Proofs.YtipemmjbgegmfaaGreatDoor
open Go.RowKit

/-- What number leaves: some value; if p holds of a code point, that code point, and yes. -/
def NumP (p : Nat → Prop) (w : World) (e : Ending) (w' : World) : Prop :=
  ∃ (v : Int) (ok : Bool), e = .returned (.tuple #[.int .u32 v, .bool ok]) ∧ w = w' ∧ 0 ≤ v ∧ v < 4294967296 ∧ ∀ c, p c → v = c ∧ ok = true

theorem number_1 (a : Addr) (c n : Nat) (w : World) (hm : 1 ≤ n) (hmx : n ≤ 9223372036854775807) (x0 : Nat) (hx0 : x0 < 256) (hc0 : w.cell? a = some (.int .u8 (x0 : Int))) :
    Calls Tryz.prog 48 #[.slice (some a) n c, .int .i64 1] w (NumP (fun c => x0 = c) w) := by
  go_enter Tryz.func48, Tryz.ntmps48
  go_wp2
  refine wp_loop_rounds 1 ?_
  rw [rounds_succ]
  go_wp2
  go_ret2
  exact ⟨_, _, rfl, rfl, by omega, by omega, fun c h => ⟨by omega, rfl⟩⟩

set_option maxRecDepth 100000 in
theorem number_2 (a : Addr) (c n : Nat) (w : World) (hm : 2 ≤ n) (hmx : n ≤ 9223372036854775807) (x0 x1 : Nat) (hx0 : x0 < 256) (hx1 : x1 < 256) 
    (hc0 : w.cell? a = some (.int .u8 (x0 : Int))) (hc1 : w.cell? ⟨a.block, a.off + 1, none⟩ = some (.int .u8 (x1 : Int))) :
    Calls Tryz.prog 48 #[.slice (some a) n c, .int .i64 2] w (NumP (fun c => c < 2048 ∧ x0 = 192 + c / 64 ∧ x1 = 128 + c % 64) w) := by
  go_enter Tryz.func48, Tryz.ntmps48
  go_wp2
  refine wp_loop_rounds 2 ?_
  rw [rounds_succ]
  go_wp2
  all_goals first
    | (rw [rounds_succ]; go_wp2; go_ret2; exact ⟨_, _, rfl, rfl, by omega, by omega, fun c h => ⟨by omega, rfl⟩⟩)
    | (go_ret2; exact ⟨_, _, rfl, rfl, by omega, by omega, fun c h => by omega⟩)

set_option maxRecDepth 100000 in
set_option maxHeartbeats 400000 in
theorem number_3 (a : Addr) (c n : Nat) (w : World) (hm : 3 ≤ n) (hmx : n ≤ 9223372036854775807) (x0 x1 x2 : Nat) (hx0 : x0 < 256) (hx1 : x1 < 256) (hx2 : x2 < 256)
    (hc0 : w.cell? a = some (.int .u8 (x0 : Int))) (hc1 : w.cell? ⟨a.block, a.off + 1, none⟩ = some (.int .u8 (x1 : Int))) (hc2 : w.cell? ⟨a.block, a.off + 2, none⟩ = some (.int .u8 (x2 : Int))) :
    Calls Tryz.prog 48 #[.slice (some a) n c, .int .i64 3] w (NumP (fun c => c < 65536 ∧ x0 = 224 + c / 4096 ∧ x1 = 128 + c / 64 % 64 ∧ x2 = 128 + c % 64) w) := by
  go_enter Tryz.func48, Tryz.ntmps48
  go_wp2
  refine wp_loop_rounds 3 ?_
  rw [rounds_succ]
  go_wp2
  all_goals first
    | (rw [rounds_succ]; go_wp2
       all_goals first
         | (rw [rounds_succ]; go_wp2; go_ret2; exact ⟨_, _, rfl, rfl, by omega, by omega, fun c h => ⟨by omega, rfl⟩⟩)
         | (go_ret2; exact ⟨_, _, rfl, rfl, by omega, by omega, fun c h => by omega⟩))
    | (go_ret2; exact ⟨_, _, rfl, rfl, by omega, by omega, fun c h => by omega⟩)

set_option maxRecDepth 100000 in
set_option maxHeartbeats 800000 in
theorem number_4 (a : Addr) (c n : Nat) (w : World) (hm : 4 ≤ n) (hmx : n ≤ 9223372036854775807) (x0 x1 x2 x3 : Nat) (hx0 : x0 < 256) (hx1 : x1 < 256) (hx2 : x2 < 256) (hx3 : x3 < 256)
    (hc0 : w.cell? a = some (.int .u8 (x0 : Int))) (hc1 : w.cell? ⟨a.block, a.off + 1, none⟩ = some (.int .u8 (x1 : Int))) (hc2 : w.cell? ⟨a.block, a.off + 2, none⟩ = some (.int .u8 (x2 : Int))) (hc3 : w.cell? ⟨a.block, a.off + 3, none⟩ = some (.int .u8 (x3 : Int))) :
    Calls Tryz.prog 48 #[.slice (some a) n c, .int .i64 4] w (NumP (fun c => c ≤ 1114111 ∧ x0 = 240 + c / 262144 ∧ x1 = 128 + c / 4096 % 64 ∧ x2 = 128 + c / 64 % 64 ∧ x3 = 128 + c % 64) w) := by
  go_enter Tryz.func48, Tryz.ntmps48
  go_wp2
  refine wp_loop_rounds 4 ?_
  rw [rounds_succ]
  go_wp2
  all_goals first
    | (rw [rounds_succ]; go_wp2
       all_goals first
         | (rw [rounds_succ]; go_wp2
            all_goals first
              | (rw [rounds_succ]; go_wp2; go_ret2; exact ⟨_, _, rfl, rfl, by omega, by omega, fun c h => ⟨by omega, rfl⟩⟩)
              | (go_ret2; exact ⟨_, _, rfl, rfl, by omega, by omega, fun c h => by omega⟩))
         | (go_ret2; exact ⟨_, _, rfl, rfl, by omega, by omega, fun c h => by omega⟩))
    | (go_ret2; exact ⟨_, _, rfl, rfl, by omega, by omega, fun c h => by omega⟩)
end Go.Proofs.YtipemmjbgegmfaaGreatDoor

/- The document's One. -/
namespace Go.Proofs.YtipemmjbgegmfaaGreatDoor
open Go.RowKit

theorem U.nth_of {l : List UInt8} {x : Nat} {k : Nat} (h : l[k]? = some (UInt8.ofNat x)) (hx : x < 256) : U.nth l k = x := by
  unfold U.nth
  rw [h]
  exact U.toNat_of x hx

/-- number, of so many of l's bytes. -/
theorem number_ref (a : Addr) (c n m : Nat) (l : List UInt8) (w : World) (h : Rd w (some a) c (bs l)) (hn : n = l.length) (hm0 : 1 ≤ m) (hm4 : m ≤ 4) (hm : m ≤ n) :
    Calls Tryz.prog 48 #[.slice (some a) n c, .int .i64 m] w (NumP (fun cp => U.isCp cp ∧ U.wid cp = m ∧ l.take m = U.enc cp) w) := by
  have hf := h.fit
  have hmx := h.max
  rw [bs_len] at hf
  unfold maxLen at hmx
  have cell : ∀ k, k < l.length → w.cell? (a.add k) = some (.int .u8 (U.nth l k : Int)) := fun k hk => by
    rw [h.cell a rfl k _ (bs_get l k hk), U.nth]
    simp [List.getElem?_eq_getElem hk]
  have hc0 : w.cell? a = _ := cell 0 (by omega)
  have key : ∀ (cp k x : Nat), l.take m = U.enc cp → k < m → (U.enc cp)[k]? = some (UInt8.ofNat x) → x < 256 → U.nth l k = x := fun cp k x he hk hx hlt => by
    refine U.nth_of ?_ hlt
    rw [← hx, ← he, List.getElem?_take, if_pos hk]
  have mono : ∀ (p q : Nat → Prop), (∀ c, q c → p c) → ∀ e w', NumP p w e w' → NumP q w e w' := fun p q hpq e w' ⟨v, ok, h1, h2, h3, h4, h5⟩ => ⟨v, ok, h1, h2, h3, h4, fun c hc => h5 c (hpq c hc)⟩
  obtain rfl | rfl | rfl | rfl : m = 1 ∨ m = 2 ∨ m = 3 ∨ m = 4 := by omega
  · refine (number_1 a c n w (by omega) (by omega) (U.nth l 0) (U.nth_lt l 0) hc0).mono (mono _ _ fun cp ⟨h1, h2, h3⟩ => ?_)
    rw [U.wid_isCp h1] at h2
    have h128 : cp < 128 := by
      refine Decidable.byContradiction fun hh => ?_
      rw [if_neg hh] at h2
      revert h2; split
      · omega
      · split <;> omega
    exact key cp 0 cp h3 (by omega) (by unfold U.enc; rw [if_pos h128]; rfl) (by omega)
  · have hc1 : w.cell? ⟨a.block, a.off + 1, none⟩ = _ := cell 1 (by omega)
    refine (number_2 a c n w (by omega) (by omega) _ _ (U.nth_lt l 0) (U.nth_lt l 1) hc0 hc1).mono (mono _ _ fun cp ⟨h1, h2, h3⟩ => ?_)
    rw [U.wid_isCp h1] at h2
    have hr : ¬ cp < 128 ∧ cp < 2048 := by
      revert h2; split
      · omega
      · split
        · omega
        · split <;> omega
    have e : U.enc cp = [UInt8.ofNat (192 + cp / 64), UInt8.ofNat (128 + cp % 64)] := by unfold U.enc; rw [if_neg hr.1, if_pos hr.2]
    exact ⟨hr.2, key cp 0 _ h3 (by omega) (by rw [e]; rfl) (by omega), key cp 1 _ h3 (by omega) (by rw [e]; rfl) (by omega)⟩
  · have hc1 : w.cell? ⟨a.block, a.off + 1, none⟩ = _ := cell 1 (by omega)
    have hc2 : w.cell? ⟨a.block, a.off + 2, none⟩ = _ := cell 2 (by omega)
    refine (number_3 a c n w (by omega) (by omega) _ _ _ (U.nth_lt l 0) (U.nth_lt l 1) (U.nth_lt l 2) hc0 hc1 hc2).mono (mono _ _ fun cp ⟨h1, h2, h3⟩ => ?_)
    rw [U.wid_isCp h1] at h2
    have hr : ¬ cp < 128 ∧ ¬ cp < 2048 ∧ cp < 65536 := by
      revert h2; split
      · omega
      · split
        · omega
        · split <;> omega
    have e : U.enc cp = [UInt8.ofNat (224 + cp / 4096), UInt8.ofNat (128 + cp / 64 % 64), UInt8.ofNat (128 + cp % 64)] := by unfold U.enc; rw [if_neg hr.1, if_neg hr.2.1, if_pos hr.2.2]
    exact ⟨hr.2.2, key cp 0 _ h3 (by omega) (by rw [e]; rfl) (by omega), key cp 1 _ h3 (by omega) (by rw [e]; rfl) (by omega), key cp 2 _ h3 (by omega) (by rw [e]; rfl) (by omega)⟩
  · have hc1 : w.cell? ⟨a.block, a.off + 1, none⟩ = _ := cell 1 (by omega)
    have hc2 : w.cell? ⟨a.block, a.off + 2, none⟩ = _ := cell 2 (by omega)
    have hc3 : w.cell? ⟨a.block, a.off + 3, none⟩ = _ := cell 3 (by omega)
    refine (number_4 a c n w (by omega) (by omega) _ _ _ _ (U.nth_lt l 0) (U.nth_lt l 1) (U.nth_lt l 2) (U.nth_lt l 3) hc0 hc1 hc2 hc3).mono (mono _ _ fun cp ⟨h1, h2, h3⟩ => ?_)
    have hle := h1.1
    rw [U.wid_isCp h1] at h2
    have hr : ¬ cp < 128 ∧ ¬ cp < 2048 ∧ ¬ cp < 65536 := by
      revert h2; split
      · omega
      · split
        · omega
        · split <;> omega
    have e : U.enc cp = [UInt8.ofNat (240 + cp / 262144), UInt8.ofNat (128 + cp / 4096 % 64), UInt8.ofNat (128 + cp / 64 % 64), UInt8.ofNat (128 + cp % 64)] := by unfold U.enc; rw [if_neg hr.1, if_neg hr.2.1, if_neg hr.2.2]
    exact ⟨hle, key cp 0 _ h3 (by omega) (by rw [e]; rfl) (by omega), key cp 1 _ h3 (by omega) (by rw [e]; rfl) (by omega), key cp 2 _ h3 (by omega) (by rw [e]; rfl) (by omega), key cp 3 _ h3 (by omega) (by rw [e]; rfl) (by omega)⟩

end Go.Proofs.YtipemmjbgegmfaaGreatDoor

/- The document's One: the walk. Written by program (wip/tools/rone.py). -/
namespace Go.Proofs.YtipemmjbgegmfaaGreatDoor
open Go.RowKit

theorem U.one_of_take {l : List UInt8} {v m : Nat} (hv : U.isCp v) (hw : U.wid v = m) (h : l.take m = U.enc v) : U.one l = (v, m) := by
  rw [← hw]
  have : l = U.enc v ++ l.drop m := by rw [← h, List.take_append_drop]
  rw [this]
  exact U.one_enc hv _
theorem U.take_of_one {l : List UInt8} {m : Nat} (hm : 0 < m) (h : (U.one l).2 = m) : U.isCp (U.one l).1 ∧ U.wid (U.one l).1 = m ∧ l.take m = U.enc (U.one l).1 := by
  obtain ⟨h1, h2, h3⟩ := U.one_spec (l := l) (by omega)
  refine ⟨h1, by omega, ?_⟩
  conv => lhs; rw [h3]
  rw [← h, h2, ← U.enc_len h1, List.take_left]

theorem ba_list (x : List UInt8) : (⟨x.toArray⟩ : ByteArray).toList = x := by
  simp
theorem arr_beq (x y : List UInt8) : ((⟨x.toArray⟩ : ByteArray).toList == (⟨y.toArray⟩ : ByteArray).toList) = decide (x = y) := by
  rw [ba_list, ba_list, Bool.eq_iff_iff, beq_iff_eq, decide_eq_true_iff]

set_option maxRecDepth 100000 in
set_option maxHeartbeats 1600000 in
theorem one_ref_pos (a : Addr) (c n : Nat) (l : List UInt8) (w : World) (h : Rd w (some a) c (bs l)) (hn : n = l.length) :
    Calls Tryz.prog 30 #[.slice (some a) n c] w fun e w' => e = .returned (.tuple #[.int .u32 (U.one l).1, .int .i64 (U.one l).2]) ∧ Up w w' := by
  have hf := h.fit
  have hmx := h.max
  rw [bs_len] at hf
  unfold maxLen at hmx
  have hfn : n ≤ c := by omega
  have hcm : c ≤ 9223372036854775807 := by omega
  have Hn := Lib.hid hn
  clear hn hf hmx
  go_enter Tryz.func30, Tryz.ntmps30
  go_wp2
  go_loopw [4] (fun i wr => ∃ m : Nat, 1 ≤ m ∧ m ≤ 5 ∧ m ≤ n + 1 ∧ i = .int .i64 m ∧ Hid (∀ k, 1 ≤ k → k < m → (U.one l).2 ≠ k) ∧ Up w wr) (fun i _ => 5 - (intOf i).toNat)
  case atStart => exact ⟨1, by omega, by omega, by omega, rfl, Lib.hid (fun k h1 h2 => by omega), Up.refl w⟩
  case round =>
    obtain ⟨m, hm1, hm5, hmn, rfl, hno, hu⟩ := hrel
    by_cases hlt : m ≤ 4 ∧ m ≤ n
    · obtain ⟨hm4, hml⟩ := hlt
      have hmc : m ≤ c := by omega
      have hcal := number_ref a c n m l wr (h.up hu) Hn.out hm1 hm4 hml
      have HC := Lib.hid (fun w' (hu2 : Up wr.drew w') => ((h.up (hu.trans (Up.of_drew hu2))).pfx m).str (n := m) (by rw [List.length_take, ← Hn.out]; omega))
      have next : (∀ cp : Nat, U.isCp cp → U.wid cp = m → l.take m = U.enc cp → False) → (U.one l).2 ≠ m := fun hh he => by
        obtain ⟨h1, h2, h3⟩ := U.take_of_one (by omega) he
        exact hh _ h1 h2 h3
      have HN := Lib.hid next
      clear next
      go_wp2_with fail
      refine hcal.mono ?_
      rintro e w1 ⟨v, ok, rfl, rfl, hv0, hv1, hP⟩
      clear hcal
      obtain ⟨v, rfl⟩ := Int.eq_ofNat_of_zero_le hv0
      have HP := Lib.hid hP
      clear hP hv0
      cases ok with
      | false =>
        have Hne := Lib.hid (HN.out fun cp h1 h2 h3 => absurd (HP.out cp ⟨h1, h2, h3⟩).2 (by decide))
        clear HP HN HC
        go_wp2_with fail
        refine wp_region_pi [(0, false), (1, false), (2, false), (4, false), (3, true), (5, false), (6, false), (7, false), (8, false), (11, false), (12, false), (13, false), (14, false), (9, true), (10, false), (15, false), (16, false)] (by kernel_rfl) (by kernel_rfl) (fun _ _ d _ _ h => by cases d <;> exact h) ?_
        iterate 2 (((with_reducible apply pi_take); (focus exact rfl); (focus exact rfl); (focus (intro w' hu; go_simp; try with_reducible rfl; done))); (simp only [Act.put, List.setIfInBounds_toArray, List.set_cons_succ, List.set_cons_zero]))
        iterate 4 (((with_reducible apply pi_skip); (focus exact rfl); (focus exact rfl)); (simp only [Act.put, List.setIfInBounds_toArray, List.set_cons_succ, List.set_cons_zero]))
        iterate 2 (((with_reducible apply pi_take); (focus exact rfl); (focus exact rfl); (focus (intro w' hu; go_simp; try with_reducible rfl; done))); (simp only [Act.put, List.setIfInBounds_toArray, List.set_cons_succ, List.set_cons_zero]))
        iterate 8 (((with_reducible apply pi_skip); (focus exact rfl); (focus exact rfl)); (simp only [Act.put, List.setIfInBounds_toArray, List.set_cons_succ, List.set_cons_zero]))
        iterate 1 (((with_reducible apply pi_take); (focus exact rfl); (focus exact rfl); (focus (intro w' hu; go_simp; try with_reducible rfl; done))); (simp only [Act.put, List.setIfInBounds_toArray, List.set_cons_succ, List.set_cons_zero]))
        refine pi_done ?_
        go_wp2
        go_roundw
        case rel => exact ⟨m + 1, by omega, by omega, by omega, by go_num, Lib.hid (fun k h1 h2 => by by_cases hk : k = m; (rw [hk]; exact Hne.out); exact hno.out k h1 (by omega)), hu.trans (Up.refl _).drew⟩
        case measure => simp [intOf]; omega
      | true =>
        have HW := Lib.hid (widthI_wid v)
        by_cases hw : U.wid v = m
        · have hcp : U.isCp v := U.wid_pos.1 (by omega)
          have Hl := Lib.hid (U.enc_len hcp)
          have Hcp := Lib.hid hcp
          have Hw := Lib.hid hw
          clear hcp hw
          by_cases he : l.take m = U.enc v
          · have Hq := Lib.hid he
            have Hbeq := Lib.hid (show (U.enc v == List.take m l) = true by rw [he]; simp)
            clear he
            go_wp2_with fail
            refine wp_region_pi [(0, false), (1, false), (2, false), (4, false), (3, true), (5, false), (6, false), (7, false), (8, false), (11, false), (12, false), (13, false), (14, false), (9, true), (10, false), (15, false), (16, false)] (by kernel_rfl) (by kernel_rfl) (fun _ _ d _ _ h => by cases d <;> exact h) ?_
            iterate 4 (((with_reducible apply pi_take); (focus exact rfl); (focus exact rfl); (focus (intro w' hu; go_simp; try with_reducible rfl; done))); (simp only [Act.put, List.setIfInBounds_toArray, List.set_cons_succ, List.set_cons_zero]))
            refine pi_make rfl rfl (fun K hK => ?_)
            go_simp
            refine (width_ref _ _).mono ?_
            rintro e w3 ⟨rfl, rfl⟩
            refine hK.out _ _ (Up.refl _) ?_
            clear hK K
            rw [HW.out, Hw.out]
            iterate 4 (((with_reducible apply pi_take); (focus exact rfl); (focus exact rfl); (focus (intro w' hu; have hcx := HC.out w' hu; go_simp; try with_reducible rfl; done))); (simp only [Act.put, List.setIfInBounds_toArray, List.set_cons_succ, List.set_cons_zero]))
            iterate 4 (((with_reducible apply pi_take); (focus exact rfl); (focus exact rfl); (focus (intro w' hu; have hcx := HC.out w' hu; go_simp; try with_reducible rfl; done))); (simp only [Act.put, List.setIfInBounds_toArray, List.set_cons_succ, List.set_cons_zero]))
            refine pi_make rfl rfl (fun K hK => ?_)
            go_simp
            refine (rput_ref v Hcp.out _).mono ?_
            rintro e w2 ⟨A2, rfl, hrd2, hu2⟩
            refine hK.out _ _ hu2 ?_
            clear hK K
            have HC2 := Lib.hid (fun w' (hu : Up w2 w') => (hrd2.up hu).str Hl.out.symm)
            clear hrd2
            iterate 1 (((with_reducible apply pi_take); (focus exact rfl); (focus exact rfl); (focus (intro w' hu; have hcx := HC2.out w' hu; go_simp; try with_reducible rfl; done))); (simp only [Act.put, List.setIfInBounds_toArray, List.set_cons_succ, List.set_cons_zero]))
            iterate 1 (((with_reducible apply pi_take); (focus exact rfl); (focus exact rfl); (focus (intro w' hu; have hcx := Hbeq.out; go_simp; try with_reducible rfl; done))); (simp only [Act.put, List.setIfInBounds_toArray, List.set_cons_succ, List.set_cons_zero]))
            iterate 1 (((with_reducible apply pi_take); (focus exact rfl); (focus exact rfl); (focus (intro w' hu; go_simp; try with_reducible rfl; done))); (simp only [Act.put, List.setIfInBounds_toArray, List.set_cons_succ, List.set_cons_zero]))
            refine pi_done ?_
            go_wp2
            go_ret2
            exact ⟨ret_two (by rw [U.one_of_take Hcp.out Hw.out Hq.out]; rfl) (by rw [U.one_of_take Hcp.out Hw.out Hq.out]; rfl), hu.trans (Up.of_drew hu2)⟩
          · have Hne := Lib.hid (HN.out fun cp h1 h2 h3 => by
              have := (HP.out cp ⟨h1, h2, h3⟩).1
              have : v = cp := by omega
              subst this
              exact he h3)
            have Hbeq := Lib.hid (show (U.enc v == List.take m l) = false from beq_eq_false_iff_ne.2 (fun hh => he hh.symm))
            clear he HN HP
            go_wp2_with fail
            refine wp_region_pi [(0, false), (1, false), (2, false), (4, false), (3, true), (5, false), (6, false), (7, false), (8, false), (11, false), (12, false), (13, false), (14, false), (9, true), (10, false), (15, false), (16, false)] (by kernel_rfl) (by kernel_rfl) (fun _ _ d _ _ h => by cases d <;> exact h) ?_
            iterate 4 (((with_reducible apply pi_take); (focus exact rfl); (focus exact rfl); (focus (intro w' hu; go_simp; try with_reducible rfl; done))); (simp only [Act.put, List.setIfInBounds_toArray, List.set_cons_succ, List.set_cons_zero]))
            refine pi_make rfl rfl (fun K hK => ?_)
            go_simp
            refine (width_ref _ _).mono ?_
            rintro e w3 ⟨rfl, rfl⟩
            refine hK.out _ _ (Up.refl _) ?_
            clear hK K
            rw [HW.out, Hw.out]
            iterate 8 (((with_reducible apply pi_take); (focus exact rfl); (focus exact rfl); (focus (intro w' hu; have hcx := HC.out w' hu; go_simp; try with_reducible rfl; done))); (simp only [Act.put, List.setIfInBounds_toArray, List.set_cons_succ, List.set_cons_zero]))
            refine pi_make rfl rfl (fun K hK => ?_)
            go_simp
            refine (rput_ref v Hcp.out _).mono ?_
            rintro e w2 ⟨A2, rfl, hrd2, hu2⟩
            refine hK.out _ _ hu2 ?_
            clear hK K
            have HC2 := Lib.hid (fun w' (hu : Up w2 w') => (hrd2.up hu).str Hl.out.symm)
            clear hrd2
            iterate 1 (((with_reducible apply pi_take); (focus exact rfl); (focus exact rfl); (focus (intro w' hu; have hcx := HC2.out w' hu; go_simp; try with_reducible rfl; done))); (simp only [Act.put, List.setIfInBounds_toArray, List.set_cons_succ, List.set_cons_zero]))
            iterate 1 (((with_reducible apply pi_take); (focus exact rfl); (focus exact rfl); (focus (intro w' hu; have hcx := Hbeq.out; go_simp; try with_reducible rfl; done))); (simp only [Act.put, List.setIfInBounds_toArray, List.set_cons_succ, List.set_cons_zero]))
            iterate 1 (((with_reducible apply pi_take); (focus exact rfl); (focus exact rfl); (focus (intro w' hu; go_simp; try with_reducible rfl; done))); (simp only [Act.put, List.setIfInBounds_toArray, List.set_cons_succ, List.set_cons_zero]))
            refine pi_done ?_
            go_wp2
            go_roundw
            case rel => exact ⟨m + 1, by omega, by omega, by omega, by go_num, Lib.hid (fun k h1 h2 => by by_cases hk : k = m; (rw [hk]; exact Hne.out); exact hno.out k h1 (by omega)), hu.trans (Up.of_drew hu2)⟩
            case measure => simp [intOf]; omega
        · have Hne := Lib.hid (HN.out fun cp h1 h2 h3 => by
            have := (HP.out cp ⟨h1, h2, h3⟩).1
            have : v = cp := by omega
            subst this
            exact hw h2)
          have hwb : ((U.wid v : Int) == (m : Int)) = false := beq_eq_false_iff_ne.2 (by omega)
          clear HN HP hw HC
          go_wp2_with fail
          refine wp_region_pi [(0, false), (1, false), (2, false), (4, false), (3, true), (5, false), (6, false), (7, false), (8, false), (11, false), (12, false), (13, false), (14, false), (9, true), (10, false), (15, false), (16, false)] (by kernel_rfl) (by kernel_rfl) (fun _ _ d _ _ h => by cases d <;> exact h) ?_
          iterate 4 (((with_reducible apply pi_take); (focus exact rfl); (focus exact rfl); (focus (intro w' hu; go_simp; try with_reducible rfl; done))); (simp only [Act.put, List.setIfInBounds_toArray, List.set_cons_succ, List.set_cons_zero]))
          refine pi_make rfl rfl (fun K hK => ?_)
          go_simp
          refine (width_ref _ _).mono ?_
          rintro e w3 ⟨rfl, rfl⟩
          refine hK.out _ _ (Up.refl _) ?_
          clear hK K
          rw [HW.out]
          iterate 3 (((with_reducible apply pi_take); (focus exact rfl); (focus exact rfl); (focus (intro w' hu; go_simp; try with_reducible rfl; done))); (simp only [Act.put, List.setIfInBounds_toArray, List.set_cons_succ, List.set_cons_zero]))
          iterate 8 (((with_reducible apply pi_skip); (focus exact rfl); (focus exact rfl)); (simp only [Act.put, List.setIfInBounds_toArray, List.set_cons_succ, List.set_cons_zero]))
          iterate 1 (((with_reducible apply pi_take); (focus exact rfl); (focus exact rfl); (focus (intro w' hu; go_simp; try with_reducible rfl; done))); (simp only [Act.put, List.setIfInBounds_toArray, List.set_cons_succ, List.set_cons_zero]))
          refine pi_done ?_
          go_wp2
          go_roundw
          case rel => exact ⟨m + 1, by omega, by omega, by omega, by go_num, Lib.hid (fun k h1 h2 => by by_cases hk : k = m; (rw [hk]; exact Hne.out); exact hno.out k h1 (by omega)), hu.trans (Up.refl _).drew⟩
          case measure => simp [intOf]; omega
    · have hz : U.one l = (0, 0) := by
        refine U.one_zero ?_
        have h1 := U.one_le l
        have h2 : (U.one l).2 ≤ 4 := by
          by_cases h0 : (U.one l).2 = 0
          · omega
          · have := (U.one_spec h0).2.1
            have := U.wid_le (U.one l).1
            omega
        have h3 := Hn.out
        refine Decidable.byContradiction fun hh => ?_
        exact hno.out _ (by omega) (by omega) rfl
      have HZ := Lib.hid hz
      clear hz
      by_cases hm4 : m ≤ 4
      · have hml : ¬ m ≤ n := fun hh => hlt ⟨hm4, hh⟩
        clear hlt
        go_wp2
        go_ret2
        exact ⟨ret_two (by rw [HZ.out]; rfl) (by rw [HZ.out]; rfl), hu⟩
      · clear hlt
        go_wp2
        go_ret2
        exact ⟨ret_two (by rw [HZ.out]; rfl) (by rw [HZ.out]; rfl), hu⟩

end Go.Proofs.YtipemmjbgegmfaaGreatDoor

/- The document's One of any bytes, and its Fault. -/
namespace Go.Proofs.YtipemmjbgegmfaaGreatDoor
open Go.RowKit

theorem one_ref (A : Option Addr) (c n : Nat) (l : List UInt8) (w : World) (h : Rd w A c (bs l)) (hn : n = l.length) :
    Calls Tryz.prog 30 #[.slice A n c] w fun e w' => e = .returned (.tuple #[.int .u32 (U.one l).1, .int .i64 (U.one l).2]) ∧ Up w w' := by
  cases A with
  | some a => exact one_ref_pos a c n l w h hn
  | none =>
    have hc : c = 0 := by
      rcases Nat.eq_zero_or_pos c with h0 | h0
      · exact h0
      · obtain ⟨a, ha, _⟩ := h.ad h0; cases ha
    have hl : l = [] := by
      have := h.fit
      rw [bs_len] at this
      exact List.eq_nil_of_length_eq_zero (by omega)
    subst hl
    subst hn
    subst hc
    rw [U.one_nil]
    clear h
    go_enter Tryz.func30, Tryz.ntmps30
    go_wp2
    refine wp_loop_rounds 1 ?_
    rw [rounds_succ]
    go_wp2
    go_ret2
    exact ⟨ret_two rfl rfl, Up.refl w⟩

set_option maxRecDepth 100000 in
theorem fault_ref (A : Option Addr) (c n : Nat) (l : List UInt8) (w : World) (h : Rd w A c (bs l)) (hn : n = l.length) :
    Calls Tryz.prog 20 #[.slice A n c] w fun e w' => e = .returned (.int .i64 (U.fault l)) ∧ Up w w' := by
  have hf := h.fit
  have hmx := h.max
  rw [bs_len] at hf
  unfold maxLen at hmx
  have hfn : n ≤ c := by omega
  have hmn : c ≤ 9223372036854775807 := by omega
  have Hn := Lib.hid hn; clear hn
  have Hf := Lib.hid hf; clear hf hmx
  go_enter Tryz.func20, Tryz.ntmps20
  go_wp2
  go_loopw [3] (fun i wr => ∃ p : Nat, p ≤ n ∧ i = .int .i64 p ∧ Hid (U.faultAt l p = U.fault l) ∧ Up w wr) (fun i _ => n - (intOf i).toNat)
  case atStart => exact ⟨0, by omega, rfl, Lib.hid rfl, Up.refl w⟩
  case round =>
    obtain ⟨p, hp, rfl, hr, hu⟩ := hrel
    by_cases hlt : p < n
    · obtain ⟨A', hsl, hrd⟩ := (h.up hu).tail n p Hn.out (by omega)
      have hle : p + (U.one (l.drop p)).2 ≤ n := by rw [Hn.out]; exact U.one_drop_le l p (by have := Hn.out; omega)
      have hs1 := Lib.hid (fun hh => U.faultAt_step (l := l) (p := p) (by have := Hn.out; omega) hh)
      have hs2 := Lib.hid (fun hh => U.faultAt_bad (l := l) (p := p) (by have := Hn.out; omega) hh)
      have hcal : ∀ w2, Up wr w2 → Calls Tryz.prog 30 #[.slice A' (n - p) (c - p)] w2 fun e w' => e = .returned (.tuple #[.int .u32 (U.one (l.drop p)).1, .int .i64 (U.one (l.drop p)).2]) ∧ Up w2 w' :=
        fun w2 hu2 => one_ref _ _ _ (l.drop p) _ (hrd.up hu2) (by rw [List.length_drop, Hn.out])
      by_cases h0 : (U.one (l.drop p)).2 = 0
      · have ht2 := Lib.hid (hs2.out h0)
        have hz0 : (U.one (l.drop p)).2 ≤ 0 := by omega
        clear h0 hs1 hs2
        generalize U.one (l.drop p) = o at *
        go_wp2_with (go_at_call 30; refine (hcal _ (Up.refl _)).mono ?_; rintro e w' ⟨rfl, hu2⟩)
        go_ret
        exact ⟨ret_int (by rw [← hr.out, ht2.out]), hu.trans hu2⟩
      · have ht1 := Lib.hid (hs1.out h0)
        have h0b : (((U.one (l.drop p)).2 : Int) == 0) = false := beq_eq_false_iff_ne.2 (by omega)
        have hpos : 0 < (U.one (l.drop p)).2 := by omega
        clear h0 hs1 hs2
        generalize U.one (l.drop p) = o at *
        go_wp2_with (go_at_call 30; refine (hcal _ (Up.refl _)).mono ?_; rintro e w' ⟨rfl, hu2⟩)
        go_roundw
        case rel => exact ⟨p + o.2, hle, by go_num, Lib.hid (by rw [← ht1.out, hr.out]), hu.trans hu2⟩
        case measure => simp [intOf]; omega
    · go_wp2
      go_ret
      exact ⟨ret_int (by rw [← hr.out, U.faultAt_end (by have := Hn.out; omega)]), hu⟩

end Go.Proofs.YtipemmjbgegmfaaGreatDoor

/- code.Codes and the document's Codes: the code points of bytes. -/
namespace Go.Proofs.YtipemmjbgegmfaaGreatDoor
open Go.RowKit

/-- What both leave. -/
def CodesP (l : List UInt8) (w : World) (e : Ending) (w' : World) : Prop :=
  Up w w' ∧ ((∃ cs A c, U.Cps cs ∧ l = U.encs cs ∧ e = .returned (.tuple #[.slice A cs.length c, .int .i64 0]) ∧ Rd w' A c (us cs)) ∨
    (0 ≤ U.fault l ∧ e = .returned (.tuple #[.slice none 0 0, .int .i64 6])))

theorem U.decode_encs {cs : List Nat} (h : U.Cps cs) {k : Nat} (hk : k < cs.length) : Utf8.decode ⟨(U.encs cs).toArray⟩ (U.encs (cs.take k)).length = (cs[k], U.wid cs[k]) := by
  rw [U.decode_eq]
  show U.dec ((U.encs cs).drop _) = _
  have e : cs = cs.take k ++ (cs[k] :: cs.drop (k + 1)) := by
    rw [List.getElem_cons_drop, List.take_append_drop]
  conv => lhs; rw [show U.encs cs = U.encs (cs.take k) ++ (U.enc cs[k] ++ U.encs (cs.drop (k + 1))) by rw [← U.encs_cons, ← U.encs_append, ← e]]
  rw [List.drop_left]
  exact U.dec_enc (h _ (List.getElem_mem hk)) _

theorem U.encs_lt {cs : List Nat} (h : U.Cps cs) {k : Nat} (hk : k < cs.length) : (U.encs (cs.take k)).length < (U.encs cs).length := by
  have e : cs = cs.take k ++ (cs[k] :: cs.drop (k + 1)) := by
    rw [List.getElem_cons_drop, List.take_append_drop]
  have := U.enc_pos (h _ (List.getElem_mem hk))
  conv => rhs; rw [show U.encs cs = U.encs (cs.take k) ++ (U.enc cs[k] ++ U.encs (cs.drop (k + 1))) by rw [← U.encs_cons, ← U.encs_append, ← e]]
  simp only [List.length_append]
  omega

theorem us_snoc {l : List Nat} {k : Nat} (h : k < l.length) : us (l.take (k + 1)) = us (l.take k) ++ [.int .u32 (l[k] : Int)] := by
  rw [U.take_snoc h, us_append]; rfl

/-- The iterator moves; all else stays. -/
theorem iterAt_other (w : World) (B : Nat) (s : ByteArray) (p k : Nat) (h : k ≠ B) : (w.iterAt B s p).heap[k]? = w.heap[k]? := by
  show (w.heap.setIfInBounds B _)[k]? = _
  rw [Array.getElem?_setIfInBounds_ne (by omega)]
theorem iterAt_same (w : World) (B : Nat) (s : ByteArray) (p : Nat) (h : B < w.heap.size) : (w.iterAt B s p).heap[B]? = some (.stringIter s p) := by
  show (w.heap.setIfInBounds B _)[B]? = _
  simp [h]
theorem iterAt_up {w wr : World} (h : Up w wr) {B : Nat} (hB : w.heap.size ≤ B) (s : ByteArray) (p : Nat) : Up w (wr.iterAt B s p) :=
  ⟨h.os, h.tape, h.output, by show _ ≤ (wr.heap.setIfInBounds B _).size; simp [h.size], fun k hk => (iterAt_other wr B s p k (by omega)).trans (h.block k hk)⟩
theorem iterAt_size (w : World) (B : Nat) (s : ByteArray) (p : Nat) : (w.iterAt B s p).heap.size = w.heap.size := by
  show (w.heap.setIfInBounds B _).size = _
  simp

/-- One element appended to what is owned: the element's own block is laid first. -/
theorem El.pushOne {T E : TypeId} {b : Nat} (h : El T E b) (w : World) (ty : TypeId) {base : Nat} {v : Value} {n : Nat} {xs : List Value} (hown : w.ownsRow base E 1 v n xs) (x : Value) (hx : x.oneCell' = true)
    (hb : (n + 1) * b ≤ 140737488355328) (hb0 : 0 < b) (hbase : base ≤ w.heap.size) :
    ∃ v' w', (Builtin.append_ #[T, T] ty #[v, .slice (some ⟨w.heap.size, 0, none⟩) 1 1]).run Tryz.prog (w.alloc (.cells #[x] E)) = .ok v' w' ∧ w'.ownsRow base E 1 v' (n + 1) (xs ++ [x]) ∧
      (w.alloc (.cells #[x] E)).grownBy w' v.ownBlock := by
  obtain ⟨v', w', h1, h2, h3, _⟩ := h.app (m := 1) (news := [x]) (w.alloc (.cells #[x] E)) ty (hown.alloc _) (Rd.new (n := 1) w #[x] E rfl rfl (by unfold maxLen; omega)) rfl (fun u hu => by rw [List.mem_singleton.1 hu]; exact hx) hb hb0 (by simp; omega)
  exact ⟨v', w', h1, h2, h3⟩

set_option maxRecDepth 100000 in
set_option maxHeartbeats 400000 in
theorem codes_code_of (A : Option Addr) (c n : Nat) (l : List UInt8) (w : World) (h : Rd w A c (bs l)) (hn : n = l.length) (hb : ∀ cs, U.Cps cs → l = U.encs cs → cs.length ≤ 35184372088832) :
    Calls Tryz.prog 37 #[.slice A n c] w (CodesP l w) := by
  have hfc := fault_code A c n l w h hn
  by_cases hft : 0 ≤ U.fault l
  · have HF := Lib.hid hft
    clear hn hb
    go_enter Tryz.func37, Tryz.ntmps37
    go_wp2_with fail
    refine hfc.mono ?_
    rintro e w1 ⟨rfl, hu1⟩
    go_wp2_with fail
    go_ret2
    exact ⟨hu1, .inr ⟨HF.out, rfl⟩⟩
  · obtain ⟨cs, hcs, rfl⟩ := U.right_of (l := l) (by omega)
    have hfl : U.fault (U.encs cs) < 0 := by omega
    have hle := U.encs_len_le cs hcs
    have hcl : cs.length ≤ n := by omega
    have hc45 := hb cs hcs rfl
    have Hcs := Lib.hid hcs
    have Hn := Lib.hid hn
    have H := Lib.hid h
    clear hft hcs hn h hle hb
    go_enter Tryz.func37, Tryz.ntmps37
    go_wp2_with fail
    refine hfc.mono ?_
    rintro e w1 ⟨rfl, hu1⟩
    have hstr := (H.out.up hu1).str Hn.out
    clear hfc
    generalize hs : (⟨(U.encs cs).toArray⟩ : ByteArray) = s at *
    have HS := Lib.hid hs
    have hsz : s.size = n := by rw [← hs, ba_size]; show (U.encs cs).length = n; exact Hn.out.symm
    have HZ := Lib.hid hsz
    clear hs hsz
    go_wp2
    go_loopw [4] (fun v wr => ∃ k : Nat, k ≤ cs.length ∧ Up w wr ∧ wr.heap[w1.heap.size]? = some (.stringIter s (U.encs (cs.take k)).length) ∧ wr.ownsRow (w1.heap.size + 1) 28 1 v k (us (cs.take k))) (fun _ wr => n - wr.iterPos w1.heap.size)
    case atStart => exact ⟨0, by omega, hu1.trans ((Up.refl w1).alloc _), World.iter_heap w1 s 0, World.ownsRow_nil _ _ _ 1⟩
    case round =>
      obtain ⟨k, hk, hu, hit, hown⟩ := hrel
      obtain ⟨B, d, rfl, hrv⟩ := own_rd hown
      have HO := Lib.hid hown
      have HI := Lib.hid hit
      have hB : w1.heap.size < wr.heap.size := (Array.getElem?_eq_some_iff.1 hit).1
      have hws : w.heap.size ≤ w1.heap.size := hu1.size
      clear hown hrv hit
      by_cases hlt : k < cs.length
      · have hp : (U.encs (cs.take k)).length < s.size := by rw [HZ.out, Hn.out]; exact U.encs_lt Hcs.out hlt
        have hdec : Utf8.decode s (U.encs (cs.take k)).length = (cs[k], U.wid cs[k]) := by rw [← HS.out]; exact U.decode_encs Hcs.out hlt
        have hnx : ∀ ty, (Instr.next (.pointer (some ⟨w1.heap.size, 0, none⟩)) true ty).run Tryz.prog wr = .ok (.tuple #[.bool true, .int .i64 (U.encs (cs.take k)).length, .int .i32 cs[k]]) (wr.iterAt w1.heap.size s ((U.encs (cs.take k)).length + U.wid cs[k])) := fun ty => by
          have := Lib.run_next_any_at (P := Tryz.prog) wr w1.heap.size s _ ty HI.out hp
          rw [hdec] at this
          exact this
        have hcp : U.isCp cs[k] := Hcs.out _ (List.getElem_mem hlt)
        have hr := hcp.1
        have S1 := Lib.hid (us_snoc hlt)
        have S2 := Lib.hid (show (U.encs (cs.take (k + 1))).length = (U.encs (cs.take k)).length + U.wid cs[k] by rw [U.encs_snoc hlt, List.length_append, U.enc_len hcp])
        have hwp := U.wid_pos.2 hcp
        have HP := Lib.hid hp
        clear hp hdec hcp
        generalize cs[k] = x at *
        generalize hP2 : (U.encs (cs.take k)).length + U.wid x = p2 at *
        have HP2 := Lib.hid hP2
        clear hP2
        have hu2 : Up w (wr.iterAt w1.heap.size s p2) := iterAt_up hu hws s p2
        have hz2 := iterAt_size wr w1.heap.size s p2
        have hown2 : (wr.iterAt w1.heap.size s p2).ownsRow (w1.heap.size + 1) 28 1 (.slice B k d) k (us (cs.take k)) := ownsRow_iterAt HO.out (by omega) s p2
        obtain ⟨v', w3, hap, hown3, hg⟩ := elU.pushOne (wr.iterAt w1.heap.size s p2) 60 hown2 (.int .u32 (x : Int)) rfl (by omega) (by omega) (by omega)
        have hu3 : Up w w3 := (hu2.alloc _).grown hg (fun g hg => by have := (hown2.lt g hg).1; omega)
        have hit3 : w3.heap[w1.heap.size]? = some (.stringIter s p2) := by
          rw [hg.block _ (by simp; omega) (fun e => by have := (hown2.lt _ e.symm).1; omega), Below.heap_alloc _ _ _ (by omega)]
          exact iterAt_same _ _ _ _ hB
        have HA := Lib.hid hap
        have HO3 := Lib.hid hown3
        have HI3 := Lib.hid hit3
        have HZ2 := Lib.hid hz2
        clear hap hown3 hg hown2 hit3 hz2
        go_wp2_with (at_builtin; refine wpList_app rfl _ _ _ rfl rfl rfl HA.out ?_)
        go_roundw
        case rel =>
          refine ⟨k + 1, by omega, hu3, ?_, ?_⟩
          · rw [S2.out]; exact HI3.out
          · rw [S1.out]; exact HO3.out
        case measure =>
          rw [iterPos_of HI3.out, iterPos_of HI.out]
          have := HP2.out
          have h1 := HP.out
          rw [HZ.out] at h1
          omega
      · have hkn : k = cs.length := by omega
        have hend : ∀ ty, (Instr.next (.pointer (some ⟨w1.heap.size, 0, none⟩)) true ty).run Tryz.prog wr = .ok (.tuple #[.bool false]) wr := fun ty =>
          Lib.run_next_end_at (P := Tryz.prog) wr w1.heap.size s _ ty HI.out (by rw [HZ.out, Hn.out, hkn, List.take_of_length_le (Nat.le_refl _)]; omega)
        have HK := Lib.hid hkn
        clear hkn
        go_wp2_with fail
        go_ret2
        have e : cs.take k = cs := List.take_of_length_le (by rw [HK.out]; exact Nat.le_refl _)
        have h1 := HO.out
        rw [e] at h1
        obtain ⟨B', d', hv, hrd⟩ := own_rd h1
        refine ⟨hu, .inl ⟨cs, B, d, Hcs.out, rfl, ret_two (by rw [HK.out]; rfl) rfl, ?_⟩⟩
        injection hv with e1 e2 e3
        subst e1 e3
        exact hrd

theorem codes_code (A : Option Addr) (c n : Nat) (l : List UInt8) (w : World) (h : Rd w A c (bs l)) (hn : n = l.length) (hb : n ≤ 35184372088832) :
    Calls Tryz.prog 37 #[.slice A n c] w (CodesP l w) :=
  codes_code_of A c n l w h hn fun cs h1 h2 => by
    have := U.encs_len_le cs h1
    rw [← h2] at this
    omega

set_option maxRecDepth 100000 in
set_option maxHeartbeats 800000 in
theorem codes_ref (A : Option Addr) (c n : Nat) (l : List UInt8) (w : World) (h : Rd w A c (bs l)) (hn : n = l.length) (hb : n ≤ 35184372088832) :
    Calls Tryz.prog 34 #[.slice A n c] w (CodesP l w) := by
  obtain ⟨cs, r, hcs, hl, hr⟩ := U.split l
  have hfl := U.fault_at hcs hr
  rw [← hl] at hfl
  have hle := U.encs_len_le cs hcs
  have hln : (U.encs cs).length + r.length = n := by rw [hn, hl, List.length_append]
  have hmx := h.max
  unfold maxLen at hmx
  have hcl : cs.length ≤ n := by omega
  have Hcs := Lib.hid hcs
  have Hn := Lib.hid hn
  have Hl := Lib.hid hl
  have Hr := Lib.hid hr
  have HF := Lib.hid hfl
  have HLN := Lib.hid hln
  have hfit : n ≤ c := by have := h.fit; rw [bs_len] at this; omega
  have hcm : c ≤ 9223372036854775807 := by omega
  have H := Lib.hid h
  clear hcs hn hl hr hfl hle hln h hmx
  go_enter Tryz.func34, Tryz.ntmps34
  go_wp2
  go_loopw [0, 4] (fun b v wr => ∃ (k m d : Nat) (B : Option Addr), k ≤ cs.length ∧ b = .slice B m d ∧ Hid (m = (U.encs (cs.drop k) ++ r).length) ∧ m ≤ d ∧ d ≤ c ∧ Up w wr ∧ Hid (Rd w B d (bs (U.encs (cs.drop k) ++ r))) ∧ wr.ownsRow w.heap.size 28 1 v k (us (cs.take k))) (fun b _ _ => match b with | .slice _ m _ => m | _ => 0)
  case atStart => exact ⟨0, n, c, A, by omega, rfl, Lib.hid (by rw [List.drop_zero, ← Hl.out, Hn.out]), hfit, Nat.le_refl _, Up.refl w, Lib.hid (by rw [List.drop_zero, ← Hl.out]; exact H.out), World.ownsRow_nil _ _ _ 1⟩
  case round =>
    obtain ⟨k, m, d, B, hk, rfl, Hm, hmd, hdc, hu, HR, hown⟩ := hrel
    obtain ⟨V, vc, rfl, hrv⟩ := own_rd hown
    have HO := Lib.hid hown
    clear hown hrv
    by_cases hlt : k < cs.length
    · have hcp : U.isCp cs[k] := Hcs.out _ (List.getElem_mem hlt)
      have hdr : U.encs (cs.drop k) ++ r = U.enc cs[k] ++ (U.encs (cs.drop (k + 1)) ++ r) := by
        rw [← List.getElem_cons_drop (h := hlt), U.encs_cons, List.append_assoc]
      have S1 := Lib.hid (us_snoc hlt)
      have Hone := one_ref B d m _ wr (HR.out.up hu) Hm.out
      have hwm : U.wid cs[k] ≤ m := by rw [Hm.out, hdr, List.length_append, U.enc_len hcp]; omega
      rw [hdr, U.one_enc hcp] at Hone
      have hwp := U.wid_pos.2 hcp
      have hcpr := hcp.1
      have HD := Lib.hid hdr
      have HX := Lib.hid (U.enc_len hcp)
      clear hdr hcp
      generalize cs[k] = x at *
      have hm0 : 0 < m := by omega
      have hwd : U.wid x ≤ d := by omega
      have hx32 : x < 4294967296 := by omega
      go_wp2_with fail
      refine Hone.mono ?_
      rintro e w1 ⟨rfl, hu1⟩
      have hown1 := own_up HO.out hu1
      obtain ⟨v', w3, hap, hown3, hg⟩ := elU.pushOne w1 60 hown1 (.int .u32 (x : Int)) rfl (by omega) (by omega) (Nat.le_trans hu.size hu1.size)
      have hu4 : Up w w3 := ((hu.trans hu1).alloc _).grown hg (fun g hg => (hown1.lt g hg).1)
      have hz0 : ((U.wid x : Int) == 0) = false := beq_eq_false_iff_ne.2 (by omega)
      have HA := Lib.hid hap
      have HO3 := Lib.hid hown3
      clear hap hown3 hg hown1 Hone
      go_wp2_with (at_builtin; refine wpList_app rfl _ _ _ rfl rfl rfl HA.out ?_)
      go_roundw
      case rel =>
        have hln : (bs (U.encs (cs.drop k) ++ r)).length = m := by rw [bs_len, Hm.out]
        have hsub := HR.out.sub (lo := U.wid x) (hi := m) (m := d) hwm (by rw [hln]; exact Nat.le_refl _) hmd (Nat.le_refl _)
        have hdrop : (U.encs (cs.drop k) ++ r).drop (U.wid x) = U.encs (cs.drop (k + 1)) ++ r := by rw [HD.out, ← HX.out, List.drop_left]
        have hlen2 : m - U.wid x = (U.encs (cs.drop (k + 1)) ++ r).length := by rw [Hm.out, HD.out, List.length_append, HX.out]; omega
        rw [bs_drop, bs_take, hdrop, List.take_of_length_le (by rw [hlen2]; exact Nat.le_refl _)] at hsub
        exact ⟨k + 1, m - U.wid x, d - U.wid x, _, by omega, rfl, Lib.hid hlen2, by omega, by omega, hu4, Lib.hid hsub, by rw [S1.out]; exact HO3.out⟩
      case measure => simp; omega
    · have hkn : k = cs.length := by omega
      have hb2 : U.encs (cs.drop k) ++ r = r := by rw [hkn, List.drop_length]; rfl
      have HK := Lib.hid hkn
      have Hb2 := Lib.hid hb2
      clear hkn hb2
      by_cases hr0 : r = []
      · have hm0 : m = 0 := by rw [Hm.out, Hb2.out, hr0]; rfl
        have HR0 := Lib.hid hr0
        clear hr0
        subst hm0
        go_wp2_with fail
        go_ret2
        have e : cs.take k = cs := List.take_of_length_le (by rw [HK.out]; exact Nat.le_refl _)
        have h1 := HO.out
        rw [e] at h1
        obtain ⟨B', d', hv, hrd⟩ := own_rd h1
        refine ⟨hu, .inl ⟨cs, V, vc, Hcs.out, by rw [Hl.out, HR0.out, List.append_nil], ret_two (by rw [HK.out]; rfl) rfl, ?_⟩⟩
        injection hv with e1 e2 e3
        subst e1 e3
        exact hrd
      · have hm0 : 0 < m := by rw [Hm.out, Hb2.out]; exact List.length_pos_iff.2 hr0
        have Hone := one_ref B d m _ wr (HR.out.up hu) Hm.out
        rw [Hb2.out, U.one_zero Hr.out] at Hone
        have HF2 := Lib.hid (show 0 ≤ U.fault l by rw [HF.out, if_neg hr0]; omega)
        clear hr0
        go_wp2_with fail
        refine Hone.mono ?_
        rintro e w1 ⟨rfl, hu1⟩
        go_wp2_with fail
        go_ret2
        exact ⟨hu.trans hu1, .inr ⟨HF2.out, rfl⟩⟩

end Go.Proofs.YtipemmjbgegmfaaGreatDoor

/- The document's Same, of two lists that read the same. -/
namespace Go.Proofs.YtipemmjbgegmfaaGreatDoor
open Go.RowKit

end Go.Proofs.YtipemmjbgegmfaaGreatDoor

/- The statements CodeCodes and CodeBytes: the walks. -/
namespace Go.Proofs.YtipemmjbgegmfaaGreatDoor
open Go.RowKit

theorem CodesP.yes {cs : List Nat} (h : U.Cps cs) {w : World} {e : Ending} {w' : World} (hp : CodesP (U.encs cs) w e w') :
    Up w w' ∧ ∃ A c, e = .returned (.tuple #[.slice A cs.length c, .int .i64 0]) ∧ Rd w' A c (us cs) := by
  obtain ⟨hu, ⟨ds, A, c, hd, he, h1, h2⟩ | ⟨h1, _⟩⟩ := hp
  · have := U.encs_inj h hd he
    subst this
    exact ⟨hu, A, c, h1, h2⟩
  · rw [U.fault_encs h] at h1
    omega
theorem CodesP.no {l : List UInt8} (h : 0 ≤ U.fault l) {w : World} {e : Ending} {w' : World} (hp : CodesP l w e w') :
    Up w w' ∧ e = .returned (.tuple #[.slice none 0 0, .int .i64 6]) := by
  obtain ⟨hu, ⟨ds, A, c, hd, he, h1, h2⟩ | ⟨_, h2⟩⟩ := hp
  · rw [he, U.fault_encs hd] at h
    omega
  · exact ⟨hu, h2⟩
theorem BytesP.yes {l : List Nat} (h : U.Cps l) {w : World} {e : Ending} {w' : World} (hp : BytesP l w e w') :
    Up w w' ∧ ∃ A c, e = .returned (.tuple #[.slice A (U.encs l).length c, .int .i64 0]) ∧ Rd w' A c (bs (U.encs l)) := by
  obtain ⟨hu, ⟨_, A, c, h1, h2⟩ | ⟨h1, _⟩⟩ := hp
  · exact ⟨hu, A, c, h1, own_read h2⟩
  · exact absurd h h1
theorem BytesP.own {l : List Nat} (h : U.Cps l) {w : World} {e : Ending} {w' : World} (hp : BytesP l w e w') :
    Up w w' ∧ ∃ A c, e = .returned (.tuple #[.slice A (U.encs l).length c, .int .i64 0]) ∧ w'.ownsRow w.heap.size 5 1 (.slice A (U.encs l).length c) (U.encs l).length (bs (U.encs l)) := by
  obtain ⟨hu, ⟨_, h1⟩ | ⟨h1, _⟩⟩ := hp
  · exact ⟨hu, h1⟩
  · exact absurd h h1
theorem BytesP.no {l : List Nat} (h : ¬ U.Cps l) {w : World} {e : Ending} {w' : World} (hp : BytesP l w e w') : Up w w' ∧ e = .returned (.tuple #[.slice none 0 0, .int .i64 2]) := by
  obtain ⟨hu, ⟨h1, _⟩ | ⟨_, h1⟩⟩ := hp
  · exact absurd h1 h
  · exact ⟨hu, h1⟩

end Go.Proofs.YtipemmjbgegmfaaGreatDoor

/- code.Codes: what is told is a row that the call made. -/
namespace Go.Proofs.YtipemmjbgegmfaaGreatDoor
open Go.RowKit

def CodesO (l : List UInt8) (w : World) (e : Ending) (w' : World) : Prop :=
  Up w w' ∧ ((∃ cs A c, U.Cps cs ∧ l = U.encs cs ∧ e = .returned (.tuple #[.slice A cs.length c, .int .i64 0]) ∧ w'.ownsRow w.heap.size 28 1 (.slice A cs.length c) cs.length (us cs)) ∨
    (0 ≤ U.fault l ∧ e = .returned (.tuple #[.slice none 0 0, .int .i64 6])))
set_option maxRecDepth 100000 in
set_option maxHeartbeats 400000 in
theorem codes_own_of (A : Option Addr) (c n : Nat) (l : List UInt8) (w : World) (h : Rd w A c (bs l)) (hn : n = l.length) (hb : ∀ cs, U.Cps cs → l = U.encs cs → cs.length ≤ 35184372088832) :
    Calls Tryz.prog 37 #[.slice A n c] w (CodesO l w) := by
  have hfc := fault_code A c n l w h hn
  by_cases hft : 0 ≤ U.fault l
  · have HF := Lib.hid hft
    clear hn hb
    go_enter Tryz.func37, Tryz.ntmps37
    go_wp2_with fail
    refine hfc.mono ?_
    rintro e w1 ⟨rfl, hu1⟩
    go_wp2_with fail
    go_ret2
    exact ⟨hu1, .inr ⟨HF.out, rfl⟩⟩
  · obtain ⟨cs, hcs, rfl⟩ := U.right_of (l := l) (by omega)
    have hfl : U.fault (U.encs cs) < 0 := by omega
    have hle := U.encs_len_le cs hcs
    have hcl : cs.length ≤ n := by omega
    have hc45 := hb cs hcs rfl
    have Hcs := Lib.hid hcs
    have Hn := Lib.hid hn
    have H := Lib.hid h
    clear hft hcs hn h hle hb
    go_enter Tryz.func37, Tryz.ntmps37
    go_wp2_with fail
    refine hfc.mono ?_
    rintro e w1 ⟨rfl, hu1⟩
    have hstr := (H.out.up hu1).str Hn.out
    clear hfc
    generalize hs : (⟨(U.encs cs).toArray⟩ : ByteArray) = s at *
    have HS := Lib.hid hs
    have hsz : s.size = n := by rw [← hs, ba_size]; show (U.encs cs).length = n; exact Hn.out.symm
    have HZ := Lib.hid hsz
    clear hs hsz
    go_wp2
    go_loopw [4] (fun v wr => ∃ k : Nat, k ≤ cs.length ∧ Up w wr ∧ wr.heap[w1.heap.size]? = some (.stringIter s (U.encs (cs.take k)).length) ∧ wr.ownsRow (w1.heap.size + 1) 28 1 v k (us (cs.take k))) (fun _ wr => n - wr.iterPos w1.heap.size)
    case atStart => exact ⟨0, by omega, hu1.trans ((Up.refl w1).alloc _), World.iter_heap w1 s 0, World.ownsRow_nil _ _ _ 1⟩
    case round =>
      obtain ⟨k, hk, hu, hit, hown⟩ := hrel
      obtain ⟨B, d, rfl, hrv⟩ := own_rd hown
      have HO := Lib.hid hown
      have HI := Lib.hid hit
      have hB : w1.heap.size < wr.heap.size := (Array.getElem?_eq_some_iff.1 hit).1
      have hws : w.heap.size ≤ w1.heap.size := hu1.size
      clear hown hrv hit
      by_cases hlt : k < cs.length
      · have hp : (U.encs (cs.take k)).length < s.size := by rw [HZ.out, Hn.out]; exact U.encs_lt Hcs.out hlt
        have hdec : Utf8.decode s (U.encs (cs.take k)).length = (cs[k], U.wid cs[k]) := by rw [← HS.out]; exact U.decode_encs Hcs.out hlt
        have hnx : ∀ ty, (Instr.next (.pointer (some ⟨w1.heap.size, 0, none⟩)) true ty).run Tryz.prog wr = .ok (.tuple #[.bool true, .int .i64 (U.encs (cs.take k)).length, .int .i32 cs[k]]) (wr.iterAt w1.heap.size s ((U.encs (cs.take k)).length + U.wid cs[k])) := fun ty => by
          have := Lib.run_next_any_at (P := Tryz.prog) wr w1.heap.size s _ ty HI.out hp
          rw [hdec] at this
          exact this
        have hcp : U.isCp cs[k] := Hcs.out _ (List.getElem_mem hlt)
        have hr := hcp.1
        have S1 := Lib.hid (us_snoc hlt)
        have S2 := Lib.hid (show (U.encs (cs.take (k + 1))).length = (U.encs (cs.take k)).length + U.wid cs[k] by rw [U.encs_snoc hlt, List.length_append, U.enc_len hcp])
        have hwp := U.wid_pos.2 hcp
        have HP := Lib.hid hp
        clear hp hdec hcp
        generalize cs[k] = x at *
        generalize hP2 : (U.encs (cs.take k)).length + U.wid x = p2 at *
        have HP2 := Lib.hid hP2
        clear hP2
        have hu2 : Up w (wr.iterAt w1.heap.size s p2) := iterAt_up hu hws s p2
        have hz2 := iterAt_size wr w1.heap.size s p2
        have hown2 : (wr.iterAt w1.heap.size s p2).ownsRow (w1.heap.size + 1) 28 1 (.slice B k d) k (us (cs.take k)) := ownsRow_iterAt HO.out (by omega) s p2
        obtain ⟨v', w3, hap, hown3, hg⟩ := elU.pushOne (wr.iterAt w1.heap.size s p2) 60 hown2 (.int .u32 (x : Int)) rfl (by omega) (by omega) (by omega)
        have hu3 : Up w w3 := (hu2.alloc _).grown hg (fun g hg => by have := (hown2.lt g hg).1; omega)
        have hit3 : w3.heap[w1.heap.size]? = some (.stringIter s p2) := by
          rw [hg.block _ (by simp; omega) (fun e => by have := (hown2.lt _ e.symm).1; omega), Below.heap_alloc _ _ _ (by omega)]
          exact iterAt_same _ _ _ _ hB
        have HA := Lib.hid hap
        have HO3 := Lib.hid hown3
        have HI3 := Lib.hid hit3
        have HZ2 := Lib.hid hz2
        clear hap hown3 hg hown2 hit3 hz2
        go_wp2_with (at_builtin; refine wpList_app rfl _ _ _ rfl rfl rfl HA.out ?_)
        go_roundw
        case rel =>
          refine ⟨k + 1, by omega, hu3, ?_, ?_⟩
          · rw [S2.out]; exact HI3.out
          · rw [S1.out]; exact HO3.out
        case measure =>
          rw [iterPos_of HI3.out, iterPos_of HI.out]
          have := HP2.out
          have h1 := HP.out
          rw [HZ.out] at h1
          omega
      · have hkn : k = cs.length := by omega
        have hend : ∀ ty, (Instr.next (.pointer (some ⟨w1.heap.size, 0, none⟩)) true ty).run Tryz.prog wr = .ok (.tuple #[.bool false]) wr := fun ty =>
          Lib.run_next_end_at (P := Tryz.prog) wr w1.heap.size s _ ty HI.out (by rw [HZ.out, Hn.out, hkn, List.take_of_length_le (Nat.le_refl _)]; omega)
        have HK := Lib.hid hkn
        clear hkn
        go_wp2_with fail
        go_ret2
        have e : cs.take k = cs := List.take_of_length_le (by rw [HK.out]; exact Nat.le_refl _)
        have h1 := HO.out
        rw [e] at h1
        have h2 := own_base h1 (show w.heap.size ≤ w1.heap.size + 1 by omega)
        rw [HK.out] at h2
        exact ⟨hu, .inl ⟨cs, B, d, Hcs.out, rfl, ret_two (by rw [HK.out]; rfl) rfl, h2⟩⟩


theorem codes_own (A : Option Addr) (c n : Nat) (l : List UInt8) (w : World) (h : Rd w A c (bs l)) (hn : n = l.length) (hb : n ≤ 35184372088832) :
    Calls Tryz.prog 37 #[.slice A n c] w (CodesO l w) :=
  codes_own_of A c n l w h hn fun cs h1 h2 => by
    have := U.encs_len_le cs h1
    rw [← h2] at this
    omega

end Go.Proofs.YtipemmjbgegmfaaGreatDoor
