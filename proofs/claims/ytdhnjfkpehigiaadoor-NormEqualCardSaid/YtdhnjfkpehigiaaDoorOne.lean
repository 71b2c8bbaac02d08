/- code.One: the code point that bytes begin with. -/
import Derived.Test.YtdhnjfkpehigiaaDoorPre
import Derived.Laws.RangeAny
import Derived.LoopN
namespace Go.Proofs.YtdhnjfkpehigiaaDoor
open Go.RowKit

theorem ret_two {x y x' y' : Value} (h : x = x') (h2 : y = y') : Ending.returned (.tuple #[x, y]) = .returned (.tuple #[x', y']) := by rw [h, h2]
theorem up_iter (w : World) (s : ByteArray) (p : Nat) : Up w (w.iter s p) := (Up.refl w).alloc _

theorem one_code_nil (A : Option Addr) (c : Nat) (w : World) :
    Calls Tryd.prog 96 #[.slice A 0 c] w fun e w' => e = .returned (.tuple #[.int .u32 0, .int .i64 0]) ∧ Up w w' := by
  have hs0 := (Rd.zero w A).str (l := []) (n := 0) rfl
  have hend : ∀ ty, (Instr.next (.pointer (some ⟨w.heap.size, 0, none⟩)) true ty).run Tryd.prog (w.iter ⟨[].toArray⟩ 0) = _ := fun ty => run_next_end w ⟨[].toArray⟩ 0 ty (by decide)
  have hw : ((0 : Int) != widthI 0) = true := by decide
  go_enter Tryd.func96, Tryd.ntmps96
  go_wp2
  refine wp_loop_rounds 1 ?_
  rw [rounds_succ]
  go_wp2_with (go_at_call 97; refine (width_code _ _).mono ?_; rintro e w' ⟨rfl, rfl⟩)
  go_ret2
  exact ⟨ret_two rfl rfl, up_iter _ _ _⟩

set_option maxRecDepth 100000 in
/-- What One leaves, once the text of (at most) four bytes is s. -/
theorem one_walk (A : Option Addr) (c n m : Nat) (s : ByteArray) (r k : Nat) (w : World) (hc : n ≤ c) (hmx : c ≤ 9223372036854775807) (hm : (n ≤ 4 ∧ m = n) ∨ (4 < n ∧ m = 4))
    (hs0 : (convert 28 9 (.slice A m m)).run Tryd.prog w = .ok (.string s) w) (hsz : s.size = m) (hp : 0 < m) (hd : Utf8.decode s 0 = (r, k)) (hk : 0 < k) (hkm : k ≤ m) (hr : r ≤ 1114111) :
    Calls Tryd.prog 96 #[.slice A n c] w fun e w' =>
      e = .returned (if k = U.wid r then .tuple #[.int .u32 r, .int .i64 k] else .tuple #[.int .u32 0, .int .i64 0]) ∧ Up w w' := by
  have hx0 : ∀ ty, (Instr.next (.pointer (some ⟨w.heap.size, 0, none⟩)) true ty).run Tryd.prog (w.iter s 0) = .ok (.tuple #[.bool true, .int .i64 0, .int .i32 r]) (w.iter s k) := fun ty => by
    have := run_next_any (P := Tryd.prog) w s 0 ty (by omega)
    rw [hd] at this
    simpa using this
  have Hd := Lib.hid hd; clear hd
  have HW := Lib.hid (widthI_wid r)
  by_cases hw : k = U.wid r
  · rw [if_pos hw]
    have hw1 : ((k : Int) != widthI (r : Int)) = false := by rw [HW.out, ← hw]; simp
    clear hw
    by_cases hkm2 : k = m
    · obtain rfl := hkm2
      have hx1 : ∀ ty, (Instr.next (.pointer (some ⟨w.heap.size, 0, none⟩)) true ty).run Tryd.prog (w.iter s k) = .ok (.tuple #[.bool false]) (w.iter s k) := fun ty => run_next_end (P := Tryd.prog) w s k ty (by omega)
      have Hs := Lib.hid hsz; clear hsz
      rcases hm with ⟨h4, rfl⟩ | ⟨h4, rfl⟩
      all_goals
        go_enter Tryd.func96, Tryd.ntmps96
        go_wp2
        refine wp_loop_rounds 2 ?_
        rw [rounds_succ]
        go_wp2
        rw [rounds_succ]
        go_wp2_with (go_at_call 97; refine (width_code _ _).mono ?_; rintro e w' ⟨rfl, rfl⟩)
        go_ret2
        exact ⟨ret_two rfl rfl, up_iter _ _ _⟩
    · obtain ⟨x, k', hx1⟩ : ∃ (x k' : Nat), ∀ ty, (Instr.next (.pointer (some ⟨w.heap.size, 0, none⟩)) true ty).run Tryd.prog (w.iter s k) = .ok (.tuple #[.bool true, .int .i64 k, .int .i32 x]) (w.iter s k') := ⟨_, _, fun ty => run_next_any (P := Tryd.prog) w s k ty (by omega)⟩
      have Hs := Lib.hid hsz; clear hsz
      rcases hm with ⟨h4, rfl⟩ | ⟨h4, rfl⟩
      all_goals
        go_enter Tryd.func96, Tryd.ntmps96
        go_wp2
        refine wp_loop_rounds 2 ?_
        rw [rounds_succ]
        go_wp2
        rw [rounds_succ]
        go_wp2_with (go_at_call 97; refine (width_code _ _).mono ?_; rintro e w' ⟨rfl, rfl⟩)
        go_ret2
        exact ⟨ret_two rfl rfl, up_iter _ _ _⟩
  · rw [if_neg hw]
    have hw1 : ((k : Int) != widthI (r : Int)) = true := by rw [HW.out]; simp only [bne_iff_ne]; omega
    clear hw
    by_cases hkm2 : k = m
    · obtain rfl := hkm2
      have hx1 : ∀ ty, (Instr.next (.pointer (some ⟨w.heap.size, 0, none⟩)) true ty).run Tryd.prog (w.iter s k) = .ok (.tuple #[.bool false]) (w.iter s k) := fun ty => run_next_end (P := Tryd.prog) w s k ty (by omega)
      have Hs := Lib.hid hsz; clear hsz
      rcases hm with ⟨h4, rfl⟩ | ⟨h4, rfl⟩
      all_goals
        go_enter Tryd.func96, Tryd.ntmps96
        go_wp2
        refine wp_loop_rounds 2 ?_
        rw [rounds_succ]
        go_wp2
        rw [rounds_succ]
        go_wp2_with (go_at_call 97; refine (width_code _ _).mono ?_; rintro e w' ⟨rfl, rfl⟩)
        go_ret2
        exact ⟨ret_two rfl rfl, up_iter _ _ _⟩
    · obtain ⟨x, k', hx1⟩ : ∃ (x k' : Nat), ∀ ty, (Instr.next (.pointer (some ⟨w.heap.size, 0, none⟩)) true ty).run Tryd.prog (w.iter s k) = .ok (.tuple #[.bool true, .int .i64 k, .int .i32 x]) (w.iter s k') := ⟨_, _, fun ty => run_next_any (P := Tryd.prog) w s k ty (by omega)⟩
      have Hs := Lib.hid hsz; clear hsz
      rcases hm with ⟨h4, rfl⟩ | ⟨h4, rfl⟩
      all_goals
        go_enter Tryd.func96, Tryd.ntmps96
        go_wp2
        refine wp_loop_rounds 2 ?_
        rw [rounds_succ]
        go_wp2
        rw [rounds_succ]
        go_wp2_with (go_at_call 97; refine (width_code _ _).mono ?_; rintro e w' ⟨rfl, rfl⟩)
        go_ret2
        exact ⟨ret_two rfl rfl, up_iter _ _ _⟩

/-- One, of any bytes. -/
theorem one_code (A : Option Addr) (c n : Nat) (l : List UInt8) (w : World) (h : Rd w A c (bs l)) (hn : n = l.length) :
    Calls Tryd.prog 96 #[.slice A n c] w fun e w' => e = .returned (.tuple #[.int .u32 (U.one l).1, .int .i64 (U.one l).2]) ∧ Up w w' := by
  have hf := h.fit
  have hmx := h.max
  rw [bs_len] at hf
  unfold maxLen at hmx
  by_cases h0 : l = []
  · subst h0
    subst hn
    exact one_code_nil A c w
  · have hp : 0 < l.length := List.length_pos_iff.2 h0
    obtain ⟨m, hm, hmn⟩ : ∃ m : Nat, ((n ≤ 4 ∧ m = n) ∨ (4 < n ∧ m = 4)) ∧ m ≤ n := by
      by_cases h4 : n ≤ 4
      · exact ⟨n, .inl ⟨h4, rfl⟩, by omega⟩
      · exact ⟨4, .inr ⟨by omega, rfl⟩, by omega⟩
    have htk : l.take m = l.take 4 := by
      rcases hm with ⟨h4, rfl⟩ | ⟨_, rfl⟩
      · rw [List.take_of_length_le (by omega), List.take_of_length_le (by omega)]
      · rfl
    have hs0 := (h.pre (k := m) (by omega)).str (n := m) (by rw [List.length_take]; omega)
    have hd : Utf8.decode ⟨(l.take m).toArray⟩ 0 = ((U.dec l).1, (U.dec l).2) := by
      rw [U.decode_eq, List.drop_zero]
      show U.dec (l.take m) = _
      rw [htk, U.dec_take]
    refine (one_walk A c n m ⟨(l.take m).toArray⟩ (U.dec l).1 (U.dec l).2 w (by omega) (by omega) hm hs0 (by rw [ba_size]; show (l.take m).length = m; rw [List.length_take]; omega) (by omega) hd (U.dec_pos l) ?_ (U.dec_cp_le l)).mono ?_
    · have h1 := U.dec_le l (by omega)
      have h2 := U.dec_wid4 l
      omega
    · rintro e w' ⟨rfl, hu⟩
      refine ⟨?_, hu⟩
      unfold U.one
      rw [if_neg h0]
      split <;> rfl

end Go.Proofs.YtdhnjfkpehigiaaDoor
