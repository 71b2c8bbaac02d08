/- Stage 8's awake. -/
import Derived.Test.YtdhnjfkpehigiaaDoorNoy
namespace Go.Proofs.YtdhnjfkpehigiaaDoor
open Go.RowKit Go.Proofs.YtdhnjfkpehigiaaDoor.Ordr Go.Proofs.YtdhnjfkpehigiaaDoor.Cmpr

theorem rd_lit (w : World) (l : List UInt8) (n : Nat) (hn : n = l.length) (hm : n ≤ 1000) : Rd (w.alloc (.cells (bs l).toArray 5)) (some ⟨w.heap.size, 0, none⟩) n (bs l) := by
  subst hn
  exact Rd.new (n := l.length) w (bs l).toArray 5 rfl (by rw [bs_len]) (by unfold maxLen; omega)

set_option maxRecDepth 100000 in
set_option maxHeartbeats 800000 in
theorem awake_8 (H : NormOk) (w : World) (h : HRows w) : Calls Tryd.prog 15 #[] w fun e w' => e = .returned (.bool true) ∧ Up w w' := by
  obtain ⟨e1, e2, e3⟩ := norm_vals
  have hcp : U.Cps [65, 778] := by
    intro c hc
    rcases List.mem_cons.1 hc with rfl | hc
    · decide
    · rw [List.mem_singleton.1 hc]; decide
  have henc : U.encs [65, 778] = [65, 204, 138] := by decide
  have henc2 : U.encs [197] = [195, 133] := by decide
  have c1 := Lib.hid (H.text (some ⟨w.heap.size, 0, none⟩) 3 3 [65, 204, 138] (w.alloc (.cells (bs [65, 204, 138]).toArray 5)) (h.up ((Up.refl w).alloc _)) (rd_lit w [65, 204, 138] 3 rfl (by omega)) rfl (by omega))
  have c2 := Lib.hid (fun w (h : HRows w) => H.text (some ⟨w.heap.size, 0, none⟩) 1 1 [255] (w.alloc (.cells (bs [255]).toArray 5)) (h.up ((Up.refl w).alloc _)) (rd_lit w [255] 1 rfl (by omega)) rfl (by omega))
  have c3 := fun w (h : HRows w) => H.nfc (some ⟨w.heap.size, 0, none⟩) 1 1 [8491] (w.alloc (.cells (us [8491]).toArray 27)) (h.up ((Up.refl w).alloc _)) (own_read (own_lit w [8491] 1 rfl (by omega))) rfl (by omega) (by decide)
  have c4 := fun w (h : HRows w) => H.nfd (some ⟨w.heap.size, 0, none⟩) 1 1 [197] (w.alloc (.cells (us [197]).toArray 27)) (h.up ((Up.refl w).alloc _)) (own_read (own_lit w [197] 1 rfl (by omega))) rfl (by omega) (by decide)
  have c5 := fun w (h : HRows w) => H.safe (some ⟨w.heap.size, 0, none⟩) 4 4 [65, 769, 66, 769] (w.alloc (.cells (us [65, 769, 66, 769]).toArray 27)) (h.up ((Up.refl w).alloc _)) (own_read (own_lit w [65, 769, 66, 769] 4 rfl (by omega))) rfl (by omega) (by decide)
  rw [e2] at c3
  rw [e1] at c4
  rw [safe_case] at c5
  have C3 := Lib.hid c3
  have C4 := Lib.hid c4
  have C5 := Lib.hid c5
  have hyes := Lib.hid (fun e w' (hp : TextP [65, 204, 138] (w.alloc (.cells (bs [65, 204, 138]).toArray 5)) e w') => show Up (w.alloc (.cells (bs [65, 204, 138]).toArray 5)) w' ∧ ∃ B c, e = .returned (.tuple #[.slice B 2 c, .int .i64 0]) ∧ Rd w' B c (bs [195, 133]) from by
    have := TextP.yes hcp (by rw [henc]; exact hp)
    rw [e3, henc2] at this
    exact this)
  have hno := Lib.hid (fun w1 e w' (hp : TextP [255] w1 e w') => TextP.no fault_ff hp)
  clear H c3 c4 c5 e1 e2 e3 hcp henc henc2
  go_enter Tryd.func15, Tryd.ntmps15
  go_wp2_with fail
  refine c1.out.mono ?_
  intro e w1 hp
  obtain ⟨hu1, B1, b1, rfl, hr1⟩ := hyes.out e w1 hp
  have hu01 := ((Up.refl w).alloc _).trans hu1
  have HR := Lib.hid hr1
  clear hp c1 hyes hu1 hr1
  go_wp2_with fail
  refine (c2.out w1 (h.up hu01)).mono ?_
  intro e w2 hp
  obtain ⟨hu2, B2, b2, rfl, hr2⟩ := hno.out _ e w2 hp
  have hu02 := hu01.trans (((Up.refl w1).alloc _).trans hu2)
  have hu12 := ((Up.refl w1).alloc (.cells (bs [255]).toArray 5)).trans hu2
  clear hp c2 hno hu2 hr2
  go_wp2_with fail
  refine (C3.out w2 (h.up hu02)).mono ?_
  rintro e w3 ⟨B3, d3, rfl, hO3, hu3⟩
  have hS3 := Lib.hid (same_gen B3 (some ⟨w3.heap.size, 0, none⟩) d3 1 1 1 [197] [197] _ (own_read (own_up hO3 ((Up.refl w3).alloc (.cells #[.int .u32 197] 27)))) (own_read (own_lit w3 [197] 1 rfl (by omega))) rfl rfl)
  have hu03 := hu02.trans (((Up.refl w2).alloc _).trans hu3)
  clear hO3 C3
  go_wp2_with fail
  refine hS3.out.mono ?_
  rintro e w4 ⟨rfl, hu4⟩
  have hu04 := hu03.trans (((Up.refl w3).alloc _).trans hu4)
  have hu14 := (hu12.trans (((Up.refl w2).alloc _).trans hu3)).trans (((Up.refl w3).alloc _).trans hu4)
  clear hu3 hu4 hS3 hu12 hu03 hu02
  go_wp2_with fail
  refine (C4.out w4 (h.up hu04)).mono ?_
  rintro e w5 ⟨B5, d5, rfl, hO5, hu5⟩
  have hS5 := Lib.hid (same_gen B5 (some ⟨w5.heap.size, 0, none⟩) d5 2 2 2 [65, 778] [65, 778] _ (own_read (own_up hO5 ((Up.refl w5).alloc (.cells #[.int .u32 65, .int .u32 778] 27)))) (own_read (own_lit w5 [65, 778] 2 rfl (by omega))) rfl rfl)
  clear hO5 C4
  go_wp2_with fail
  refine hS5.out.mono ?_
  rintro e w6 ⟨rfl, hu6⟩
  have hu06 := hu04.trans ((((Up.refl w4).alloc _).trans hu5).trans (((Up.refl w5).alloc _).trans hu6))
  have hu16 := hu14.trans ((((Up.refl w4).alloc _).trans hu5).trans (((Up.refl w5).alloc _).trans hu6))
  clear hu5 hu6 hS5 hu04 hu14
  have s1 := (HR.out.up hu16).str (n := 2) rfl
  go_wp2_with fail
  refine (C5.out w6 (h.up hu06)).mono ?_
  rintro e w7 ⟨rfl, hu7⟩
  go_wp2_with fail
  go_ret
  exact ⟨rfl, hu06.trans (((Up.refl w6).alloc _).trans hu7)⟩

end Go.Proofs.YtdhnjfkpehigiaaDoor
