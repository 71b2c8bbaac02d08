/- The document's stream: safe, Write. -/
import Derived.Test.YtipemmjbgegmfaaGreatDoorStt
namespace Go.Proofs.YtipemmjbgegmfaaGreatDoor
open Go.RowKit Go.Proofs.YtipemmjbgegmfaaGreatDoor.Ordr Go.Proofs.YtipemmjbgegmfaaGreatDoor.Cmpr

set_option maxRecDepth 100000 in
theorem safe_ref10 (A : Option Addr) (n c : Nat) (l : List UInt8) (w : World) (hr : Rd w A c (bs l)) (hn : n = l.length) (hn4 : n ≤ 4000) (hcs : ∃ cs, U.Cps cs ∧ l = U.encs cs) :
    Calls Tryz.prog 23 #[.slice A n c] w fun e w' => e = .returned (.int .i64 (safeB l : Int)) ∧ Up w w' := by
  obtain ⟨cs, hcp, rfl⟩ := hcs
  have c1 := Lib.hid (codes_ref A c n (U.encs cs) w hr hn (by omega))
  have hcl : cs.length ≤ n := by rw [hn]; exact U.encs_len_le cs hcp
  have HS := Lib.hid (fun B d w' (h : Rd w' B d (us cs)) => nsafe_ref B cs.length d cs w' h rfl (by omega))
  have hsl := safeOf_le cs
  have HB := Lib.hid (fun B d w' (h : Rd w' B d (us (cs.take (safeOf cs)))) => bytes_ref B d (safeOf cs) (cs.take (safeOf cs)) w' h (by rw [List.length_take]; omega) (by omega))
  have HCT := Lib.hid (cps_take hcp (safeOf cs))
  have HCP := Lib.hid hcp
  have HSB := Lib.hid (safeB_encs hcp)
  rw [HSB.out]
  clear hr hn hcp HSB
  go_enter Tryz.func23, Tryz.ntmps23
  go_wp2_with fail
  refine c1.out.mono ?_
  intro e w1 hp
  obtain ⟨hu1, B, d, rfl, hr1⟩ := CodesP.yes HCP.out hp
  have s1 := Lib.hid (HS.out B d w1 hr1)
  obtain ⟨B2, hsl2, hr2⟩ := hr1.headU cs.length (safeOf cs) rfl hsl
  have b1 := Lib.hid (fun w' (u : Up w1 w') => HB.out B2 d w' (hr2.up u))
  clear hp c1 HS HB hr1 hr2
  generalize hk : safeOf cs = k at *
  have HK := Lib.hid hk
  clear hk
  generalize hL : cs.take k = L at *
  have HL := Lib.hid hL
  clear hL
  generalize cs.length = m at *
  go_wp2_with fail
  refine s1.out.mono ?_
  rintro e w2 ⟨rfl, hu2⟩
  go_wp2_with fail
  refine (b1.out w2 hu2).mono ?_
  intro e w3 hp
  obtain ⟨hu3, B3, c3, rfl, hr3⟩ := BytesP.yes HCT.out hp
  clear hp hr3
  go_wp2_with fail
  go_ret
  exact ⟨by rw [HK.out, HL.out]; rfl, (hu1.trans hu2).trans hu3⟩

/-- What the document's Write and End leave. -/
def WrP (s : SS) (t : List UInt8) (A : Option Addr) (c : Nat) (w : World) (e : Ending) (w' : World) : Prop :=
  ∃ A' c' D d, e = .returned (.tuple #[aggR s A' s.held.length c', .slice D t.length d, .int .i64 (s.err : Int)]) ∧ Rd w' A' c' (bs s.held) ∧ Rd w' D d (bs t) ∧ ((A' = A ∧ c' = c) ∨ ∀ a, A' = some a → w.heap.size ≤ a.block) ∧ (∀ a, D = some a → w.heap.size ≤ a.block) ∧ Up w w'

set_option maxRecDepth 100000 in
set_option maxHeartbeats 1600000 in
theorem write_ref_err (s : SS) (A : Option Addr) (n c : Nat) (w : World) (hr : Rd w A c (bs s.held)) (hn : n = s.held.length) (he : s.err = 6) (B : Option Addr) (m d : Nat) :
    Calls Tryz.prog 10 #[aggR s A n c, .slice B m d] w (WrP s [] A c w) := by
  have HP : ∀ w', Up w w' → WrP s [] A c w (.returned (.tuple #[.agg #[.int .i64 (s.inn : Int), .int .i64 (s.out : Int), .int .u32 (s.sin : Int), .int .u32 (s.sout : Int), .slice A n c, .int .i64 6], .slice none 0 0, .int .i64 6])) w' := fun w' u =>
    ⟨A, c, none, 0, by unfold aggR cellsR; rw [he, hn]; rfl, hr.up u, Rd.empty w', .inl ⟨rfl, rfl⟩, (fun a h => by cases h), u⟩
  have HP := Lib.hid HP
  unfold aggR cellsR
  rw [he]
  clear hr hn
  generalize hQ : WrP s [] A c w = Q at *
  clear hQ
  generalize s.inn = i at *
  generalize s.out = o at *
  generalize s.sin = si at *
  generalize s.sout = so at *
  obtain ⟨w2, hw2⟩ : ∃ w2, (w.alloc (.cells #[.int .i64 (i : Int), .int .i64 (o : Int), .int .u32 (si : Int), .int .u32 (so : Int), .slice A n c, .int .i64 6] 33)).alloc (.cells #[.int .i64 0, .int .i64 0, .int .u32 0, .int .u32 0, .slice none 0 0, .int .i64 0] 33) = w2 := ⟨_, rfl⟩
  have hu2 : Up w w2 := by rw [← hw2]; exact ((Up.refl w).alloc _).alloc _
  have ob : w2.heap[w.heap.size]? = some (.cells #[.int .i64 (i : Int), .int .i64 (o : Int), .int .u32 (si : Int), .int .u32 (so : Int), .slice A n c, .int .i64 6] 33 (0, 0)) := by rw [← hw2]; exact heap_alloc2_old w _ _
  have oz : w2.heap[w.heap.size + 1]? = some (.cells #[.int .i64 0, .int .i64 0, .int .u32 0, .int .u32 0, .slice none 0 0, .int .i64 0] 33 (0, 0)) := by rw [← hw2]; exact heap_alloc2_new w _ _
  obtain ⟨x0, x1, x2, x3, x4, x5⟩ := six_cells ob
  have HOB := Lib.hid (obj_up ob (Up.refl w2).drew)
  have HOZ := Lib.hid (obj_up oz (Up.refl w2).drew)
  have HU2 := Lib.hid (hu2.trans (Up.refl w2).drew)
  clear ob oz hu2
  go_enter Tryz.func10, Tryz.ntmps10
  go_wp2_with (rw [hw2])
  clear x0 x1 x2 x3 x4 x5 hw2
  have HC := Lib.hid (fun w' (h : Fr (w.heap.size + 1) (w.heap.size + 1) w2.drew w') => six_cells (obj_fr HOB.out h (by omega) (by omega)))
  refine wp_region_pir (R := Fr (w.heap.size + 1) (w.heap.size + 1)) [(0, false), (1, false), (2, false), (3, true), (4, false), (5, false)] (kept_fr _ _) (by kernel_rfl) (by kernel_rfl) (fun _ _ d _ _ h => by cases d <;> exact h) ?_
  generalize w2.drew = w3 at *
  iterate 3 (((with_reducible apply pir_take); (focus exact rfl); (focus exact rfl); (focus (intro w' u; obtain ⟨x0, x1, x2, x3, x4, x5⟩ := HC.out w' u; go_simp; try with_reducible rfl; done))); (simp only [Act.put, List.setIfInBounds_toArray, List.set_cons_succ, List.set_cons_zero]))
  obtain ⟨n0, n1, n2, n3, n4, n5⟩ := six_cells HOZ.out
  obtain ⟨m0, m1, m2, m3, m4, m5⟩ := six_open HOZ.out
  have o7 := Lib.hid (put6_obj HOZ.out (.int .i64 (i : Int)) (.int .i64 (o : Int)) (.int .u32 (si : Int)) (.int .u32 (so : Int)) (.slice A n c) (.int .i64 6))
  have fr7 := Lib.hid (put6_fr w3 (w.heap.size + 1) (.int .i64 (i : Int)) (.int .i64 (o : Int)) (.int .u32 (si : Int)) (.int .u32 (so : Int)) (.slice A n c) (.int .i64 6))
  refine pir_make rfl rfl (fun K hK => ?_)
  go_simp
  refine hK.out _ _ fr7.out ?_
  clear hK K
  iterate 2 (((with_reducible apply pir_take); (focus exact rfl); (focus exact rfl); (focus (intro w' u; go_simp; try with_reducible rfl; done))); (simp only [Act.put, List.setIfInBounds_toArray, List.set_cons_succ, List.set_cons_zero]))
  refine pir_done ?_
  go_wp2_with fail
  exact ret_struct2 (x := .slice none 0 0) (y := .int .i64 6) rfl rfl rfl rfl o7.out Tryz.underlying33 rfl info10 rfl (HP.out _ (HU2.out.fr fr7.out (by omega) (by omega)))

end Go.Proofs.YtipemmjbgegmfaaGreatDoor
