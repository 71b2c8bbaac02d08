/- ScanFeeds: any pieces. Written by program (wip/tools/fd.py). -/
import Derived.Test.YtdkegfookbgicaaGos
import Derived.Test.YtdkegfookbgicaaByb
namespace Go.Proofs.Ytdkegfookbgicaa
open Go.RowKit

/-- A slice of slices of bytes that came in. -/
def RowsIn (w : World) (O : Option Addr) (LL : List (List UInt8)) : Prop :=
  ∀ i, (h : i < LL.length) → ∃ a A c, O = some a ∧ a.block < w.heap.size ∧ w.cell? (a.add i) = some (.slice A LL[i].length c) ∧ Rd w A c (bs LL[i])

theorem copy_some (w : World) {A : Option Addr} {n c : Nat} {l : List UInt8} (hr : Rd w A c (bs l)) (hn : n = l.length) (hb : n ≤ 140737488355328) :
    ∃ A1 c1 w1 b, (Builtin.append_ #[22, 22] 22 #[.slice (some ⟨w.heap.size, 0, none⟩) 0 0, .slice A n c]).run Try.prog (w.alloc (.cells #[] 5)) = .ok (.slice A1 n c1) w1 ∧ Rd w1 A1 c1 (bs l) ∧ Up w w1 ∧
      w1.ownsRow w.heap.size 5 1 (.slice A1 n c1) n (bs l) ∧ (∀ a, A1 = some a → a = ⟨b, 0, none⟩) ∧ w.heap.size ≤ b ∧ b < w1.heap.size := by
  have hown : (w.alloc (.cells #[] 5)).ownsRow w.heap.size 5 1 (.slice (some ⟨w.heap.size, 0, none⟩) 0 0) 0 [] := World.ownsRow_made w #[] 0 (Nat.le_refl _) (Nat.zero_le _) rfl
  obtain ⟨v1, w1, hrun, hown1, hg1, hbl⟩ := elB.app (w.alloc (.cells #[] 5)) 22 (m := n) hown (hr.up ((Up.refl w).alloc _)) (by rw [bs_len]; exact hn) (one_bs l) (by omega) (by decide) (by simp)
  have hb1 : Below w.heap.size (w.alloc (.cells #[] 5)) w1 := Below.grown (Below.refl _ _) hg1 (by simp) (fun k hk => (World.ownsRow.lt hown k hk).1)
  have hu1 : Up w w1 := Below.trans ((Up.refl w).alloc (.cells #[] 5)) hb1
  simp only [Nat.zero_add, List.nil_append] at hown1
  have hob : ∃ b, v1.ownBlock = some b := by
    rcases hbl with h | h
    · exact ⟨_, h⟩
    · exact ⟨_, h⟩
  obtain ⟨b, hob⟩ := hob
  have hlt := World.ownsRow.lt hown1 b hob
  obtain ⟨A1, c1, rfl, hrd⟩ := own_rd hown1
  refine ⟨A1, c1, w1, b, hrun, hrd, hu1, hown1, fun a ha => ?_, hlt.1, hlt.2⟩
  rcases hown1.2 with ⟨h, _⟩ | ⟨g, cap, cur, h, _⟩
  · injection h with e1
    rw [e1] at ha; cases ha
  · injection h with e1 e2 e3
    rw [e1] at hob ha
    have e4 : g = b := Option.some.inj hob
    subst e4
    exact (Option.some.inj ha).symm

theorem flat_succ (LL : List (List UInt8)) (i : Nat) (h : i < LL.length) : (LL.take (i + 1)).flatten = (LL.take i).flatten ++ LL[i] := by
  rw [List.take_succ_eq_append_getElem h, List.flatten_append]; simp
theorem flat_le (LL : List (List UInt8)) (i : Nat) (h : i < LL.length) : (LL.take i).flatten.length + LL[i].length ≤ LL.flatten.length := by
  have h1 := flat_succ LL i h
  have h2 : LL.flatten = (LL.take (i + 1)).flatten ++ (LL.drop (i + 1)).flatten := by rw [← List.flatten_append, List.take_append_drop]
  have h3 := congrArg List.length h1
  have h4 := congrArg List.length h2
  rw [List.length_append] at h3 h4
  omega

set_option maxRecDepth 100000 in
set_option maxHeartbeats 3200000 in
theorem feeds_walk (W : World) (O : Option Addr) (len cap : Nat) (LL : List (List UInt8)) (hlen : Hid (LL.length = len)) (hlc : len ≤ cap) (hcm : cap ≤ 9223372036854775807) (hin : RowsIn W O LL) (htot : LL.flatten.length ≤ 1048576) :
    Calls Try.prog 4 #[.slice O len cap] W fun e w' => e = .returned (.bool true) ∧ Up W w' := by
  have Htot := Lib.hid htot
  clear htot
  go_enter Try.func4, Try.ntmps4
  go_wp2_with fail
  refine (new_code W).mono ?_
  rintro e w1 ⟨g, rfl, hsc1, hu1, hg1⟩
  have ox1 := heap_alloc_new w1 (.cells #[.int .i64 0, .int .i64 (-1), .slice none 0 0] 29)
  have hux1 := (Up.refl w1).alloc (.cells #[.int .i64 0, .int .i64 (-1), .slice none 0 0] 29)
  have hgl := hsc1.lt
  have hsa := same_law (hsc1.up hux1) U.St.new_ok none 0 (Rd.empty _)
  simp only [agg, U.St.new] at hsa
  go_wp2_with fail
  refine hsa.mono ?_
  rintro e w2 ⟨rfl, hu2⟩
  have hsc2 := (hsc1.up hux1).up hu2
  have ox2 := obj_up ox1 hu2
  have huW := (hu1.trans hux1).trans hu2
  have hz1 := hu1.size
  clear hsa hsc1 ox1 hux1 hu1 hu2
  generalize w1.heap.size = xb at *
  go_wp2_with fail
  go_loopw [5] (fun i wr => ∃ p : Nat, p ≤ len ∧ i = .int .i64 p ∧ ∃ k Ax cx, Sc wr g k (U.St.of (LL.take p).flatten) ∧ wr.heap[xb]? = some (.cells #[.int .i64 (U.St.of (LL.take p).flatten).seen, .int .i64 (U.St.of (LL.take p).flatten).bad, .slice Ax (U.St.of (LL.take p).flatten).pend.length cx] 29 (0, 0)) ∧ Rd wr Ax cx (bs (U.St.of (LL.take p).flatten).pend) ∧
    W.heap.size ≤ k ∧ k ≠ xb ∧ (0 < cx → ∀ a, Ax = some a → a.block ≠ g ∧ a.block ≠ k ∧ a.block ≠ xb) ∧ Up W wr) (fun i _ => len - (intOf i).toNat)
  case atStart => exact ⟨0, by omega, rfl, g, none, 0, hsc2, ox2, Rd.empty _, hg1, by omega, (fun h => absurd h (Nat.lt_irrefl 0)), huW⟩
  case round =>
    obtain ⟨p, hpl, rfl, k, Ax, cx, hsc, hox, hrx, hkW, hkx, hax, hu⟩ := hrel
    generalize wr = wA at *
    clear hsc2 ox2 huW
    by_cases hlt : p < len
    · have hpL : p < LL.length := by have := hlen.out; omega
      obtain ⟨a, A, c, rfl, hab, hcell, hrd⟩ := hin p hpL
      have hfl := flat_succ LL p hpL
      have hfle := flat_le LL p hpL
      have hT := Htot.out
      have hse := U.St.of_seen (LL.take p).flatten
      have hgo : (U.St.of (LL.take p).flatten).go LL[p] = U.St.of (LL.take (p + 1)).flatten := by rw [U.St.of_go, hfl]
      have hok : (U.St.of (LL.take p).flatten).ok := U.St.of_ok (by omega)
      have hok2 : (U.St.of (LL.take (p + 1)).flatten).ok := U.St.of_ok (by rw [hfl, List.length_append]; omega)
      have hsz : (U.St.of (LL.take p).flatten).seen + (LL[p].length : Nat) ≤ 1048576 := by omega
      have hnr : LL[p].length ≤ 1048576 := by omega
      obtain ⟨row, hrow⟩ : ∃ row, LL[p] = row := ⟨_, rfl⟩
      rw [hrow] at hcell hrd hgo hsz hnr
      obtain ⟨s, hs⟩ : ∃ s, U.St.of (LL.take p).flatten = s := ⟨_, rfl⟩
      obtain ⟨s2, hs2⟩ : ∃ s2, U.St.of (LL.take (p + 1)).flatten = s2 := ⟨_, rfl⟩
      rw [hs] at hsc hox hrx hgo hok hsz
      rw [hs2] at hgo hok2
      have Hs2 := Lib.hid hs2
      have HGO := Lib.hid hgo
      clear hs hs2 hgo hfl hfle hT hse hrow
      obtain ⟨n, hn⟩ : ∃ n, row.length = n := ⟨_, rfl⟩
      rw [hn] at hcell hsz hnr
      have HN := Lib.hid hn
      clear hn
      have hcA : wA.cell? (a.add p) = some (.slice A n c) := (Below.cell hu (p := a.add p) (by rw [addr_block]; exact hab)).trans hcell
      have hgl := hsc.lt
      have hkl := hsc.klt
      have hxl := obj_lt hox
      have hcA0 : (wA.alloc (.cells #[] 5)).cell? (a.add p) = some (.slice A n c) := (Below.cell ((Up.refl wA).alloc (.cells #[] 5)) (p := a.add p) (by rw [addr_block]; exact Nat.lt_of_lt_of_le hab hu.size)).trans hcA
      have habA : a.block < wA.heap.size := Nat.lt_of_lt_of_le hab hu.size
      obtain ⟨A1, c1, wB, b1, hrun, hrd1, huB, hown1, hb1, hb1s, hbl⟩ := copy_some wA (hrd.up hu) HN.out.symm (by omega)
      have Q := Lib.hid hrun
      have hcB : wB.cell? (a.add p) = some (.slice A n c) := (Below.cell huB (p := a.add p) (by rw [addr_block]; exact habA)).trans hcA
      have haxl : 0 < cx → ∀ a, Ax = some a → a.block < wA.heap.size := fun hc a ha => by
        obtain ⟨a', ha', hb⟩ := hrx.ad hc
        rw [ha] at ha'
        injection ha' with e
        subst e
        exact hb
      have hscB := hsc.up huB
      have hoxB := obj_up hox huB
      have hrxB := hrx.up huB
      have huWB := hu.trans huB
      have hzB := huB.size
      have hfe := feed_ok (hscB.up (Up.refl wB).drew) (U.St.ok_pend hok) hok.seen0 A1 c1 n row (hrd1.up (Up.refl wB).drew) HN.out.symm (by omega) (fun hc a1 ha1 => by
        have e := hb1 a1 ha1
        subst e
        exact ⟨by show b1 ≠ g; omega, by show b1 ≠ k; omega⟩)
      rw [HGO.out] at hfe
      have HST := Lib.hid (fun w' (hf : Fr g k wB.drew w') => (Rd.fr (w := wB.drew) (hrd1.up (Up.refl wB).drew) hf (fun hc a1 ha1 => by
        have e := hb1 a1 ha1
        subst e
        exact ⟨by show b1 ≠ g; omega, by show b1 ≠ k; omega⟩)).str (n := n) HN.out.symm)
      have HLT := Lib.hid (fun w' (hf : Fr g k wB.drew w') => (Rd.fr (w := wB.drew) (hrd.up (huWB.trans (Up.refl wB).drew)) hf (hrd.apart hg1 hkW)).str (n := n) HN.out.symm)
      have HLC := Lib.hid (fun w' (hf : Fr g k wB.drew w') => (World.cell?_of_block (a := a.add p) (hf.block (a.add p).block (by rw [addr_block]; show a.block < wB.heap.size; omega) (by rw [addr_block]; omega) (by rw [addr_block]; omega))).trans (show wB.drew.cell? (a.add p) = some (.slice A n c) from hcB))
      have HIN := Lib.hid hin
      have HCell := Lib.hid hcell
      clear hrun hin hcell hrd1 hcB hsc hox hrx
      go_wp2_with (at_builtin; refine wpList_app rfl _ _ _ rfl rfl rfl Q.out ?_)
      clear hcA hcA0 Q
      refine wp_region_pir (R := Fr g k) [(0, false), (1, false), (2, true), (3, false), (4, false), (5, false), (6, false), (7, false), (8, false), (9, false), (10, false), (11, false), (12, false), (13, false)] (kept_fr _ _) (by kernel_rfl) (by kernel_rfl) (fun _ _ d _ _ h => by cases d <;> exact h) ?_
      iterate 2 (((with_reducible apply pir_take); (focus exact rfl); (focus exact rfl); (focus (intro w' hu; go_simp; try with_reducible rfl; done))); (simp only [Act.put, List.setIfInBounds_toArray, List.set_cons_succ, List.set_cons_zero]))
      refine pir_make rfl rfl (fun K hK => ?_)
      go_simp
      refine hfe.mono ?_
      rintro e wC ⟨rfl, k2, hscC, hk2, hfrC⟩
      refine hK.out _ _ hfrC ?_
      clear hK K hfe
      iterate 2 (((with_reducible apply pir_take); (focus exact rfl); (focus exact rfl); (focus (intro w' hu; go_simp; try with_reducible rfl; done))); (simp only [Act.put, List.setIfInBounds_toArray, List.set_cons_succ, List.set_cons_zero]))
      iterate 9 (((with_reducible apply pir_take); (focus exact rfl); (focus exact rfl); (focus (intro w' hu; have hs1 := HST.out w' (hfrC.trans hu (.inl rfl) (.inr (.inl rfl))); have hs2 := HLT.out w' (hfrC.trans hu (.inl rfl) (.inr (.inl rfl))); have hc1 := HLC.out w' (hfrC.trans hu (.inl rfl) (.inr (.inl rfl))); go_simp; try with_reducible rfl; done))); (simp only [Act.put, List.setIfInBounds_toArray, List.set_cons_succ, List.set_cons_zero]))
      refine pir_done ?_
      have hoxC := obj_fr (w := wB.drew) hoxB hfrC (by omega) (by omega)
      have hrxC := Rd.fr (w := wB.drew) (hrxB.up (Up.refl wB).drew) hfrC (fun hc a ha => ⟨(hax hc a ha).1, (hax hc a ha).2.1⟩)
      have huWC := (huWB.trans (Up.refl wB).drew).fr hfrC hg1 hkW
      have hownC := own_fr (w := wB.drew) (own_up hown1 (Up.refl wB).drew) hfrC (fun b hb => by cases hA1 : A1 with | none => rw [hA1] at hb; cases hb | some a1 => rw [hA1] at hb; have e := hb1 a1 hA1; subst e; have e2 : b1 = b := Option.some.inj hb; omega)
      have hzC := hfrC.size
      have hzd : wB.drew.heap.size = wB.heap.size := rfl
      have hk2l := hscC.klt
      clear HST HLT HLC hscB hoxB hrxB hown1
      go_wp2_with fail
      go_loopw [7] (fun i wr => ∃ q : Nat, q ≤ n ∧ i = .int .i64 q ∧ ∃ xs : List Value, (∀ u ∈ xs, ∃ z, u = .int .u8 z) ∧ wr.ownsRow wA.heap.size 5 1 (.slice A1 n c1) n xs ∧ Fr b1 b1 wC wr) (fun i _ => n - (intOf i).toNat)
      case atStart => exact ⟨0, by omega, rfl, _, fun u hu => mem_bs hu, hownC, Fr.refl _ _ _⟩
      case round =>
        obtain ⟨q, hqn, rfl, xs, hxs, hown, hfD⟩ := hrel
        generalize wr = wD at *
        by_cases hq : q < n
        · rcases id hown with ⟨hl1, ⟨_, hz⟩ | ⟨b, cap', cur, hv, hb, hgg, hnc, hcm', _⟩⟩
          · omega
          · injection hv with v1 v2 v3
            subst v1 v3
            have e0 := hb1 _ rfl
            injection e0 with e0
            subst e0
            unfold maxLen at hcm'
            obtain ⟨u, hu0⟩ : ∃ u, xs[q]? = some u := ⟨_, List.getElem?_eq_getElem (by omega)⟩
            obtain ⟨z, rfl⟩ := hxs u (List.mem_of_getElem? hu0)
            have hcell := World.ownsRow.cells hown (g := b) rfl q _ hu0
            rw [add0] at hcell
            have hfz := obj_frozen hgg q
            have hc1 : c1 ≤ 9223372036854775807 := by omega
            have HOW := Lib.hid hown
            have HXS := Lib.hid hxs
            clear hown hgg hu0 hxs hl1 v2 hcm' hownC
            go_wp2
            go_roundw
            case rel =>
              refine ⟨q + 1, by omega, by go_num, xs.set q (.int .u8 _), fun u hu => ?_, owns_set HOW.out q hq _, hfD.setCell (p := ⟨b, q, none⟩) (.inl rfl) _⟩
              rcases List.mem_or_eq_of_mem_set hu with h | h
              · exact HXS.out u h
              · exact ⟨_, h⟩
            case measure => simp [intOf]; omega
        · obtain rfl : q = n := by omega
          have hscD := hscC.fr hfD (by omega) (by omega) (by omega) (by omega)
          have hoxD := obj_fr hoxC hfD (by omega) (by omega)
          have hrxD := hrxC.fr hfD (fun hc a ha => by have := haxl hc a ha; omega)
          have huWD := huWC.fr hfD (by omega) (by omega)
          have hzD := hfD.size
          have x0 := obj_cell (w := wD.drew) hoxD 0
          have x1 := obj_cell (w := wD.drew) hoxD 1
          have x2 := obj_cell (w := wD.drew) hoxD 2
          simp only [List.getElem?_toArray, List.getElem?_cons_zero, List.getElem?_cons_succ] at x0 x1 x2
          have hnx := next_ref s Ax cx wD.drew (hrxD.up (Up.refl wD).drew) hok A q c row (hrd.up (huWD.trans (Up.refl wD).drew)) HN.out.symm (by omega)
          simp only [agg] at hnx
          rw [HGO.out] at hnx
          have HLC := Lib.hid (fun w' (hf : Fr xb xb wD.drew w') => (World.cell?_of_block (a := a.add p) (hf.block (a.add p).block (by rw [addr_block]; show a.block < wD.heap.size; omega) (by rw [addr_block]; omega) (by rw [addr_block]; omega))).trans ((Below.cell (huWD.trans (Up.refl wD).drew) (p := a.add p) (by rw [addr_block]; exact hab)).trans HCell.out))
          clear hown hxs hownC
          go_wp2_with fail
          refine wp_region_pir (R := Fr xb xb) [(1, false), (2, false), (3, false), (4, false), (0, true), (5, true), (6, false), (7, false), (8, false), (9, true)] (kept_fr _ _) (by kernel_rfl) (by kernel_rfl) (fun _ _ d _ _ h => by cases d <;> exact h) ?_
          iterate 4 (((with_reducible apply pir_take); (focus exact rfl); (focus exact rfl); (focus (intro w' hu; have hc1 := HLC.out w' hu; go_simp; try with_reducible rfl; done))); (simp only [Act.put, List.setIfInBounds_toArray, List.set_cons_succ, List.set_cons_zero]))
          refine pir_make rfl rfl (fun K hK => ?_)
          go_simp
          refine hK.out _ _ (Fr.refl _ _ _) ?_
          clear hK K
          refine pir_make rfl rfl (fun K hK => ?_)
          go_simp
          refine hnx.mono ?_
          rintro e wE ⟨A5, c5, rfl, hr5, hA5, huE⟩
          refine hK.out _ _ (Fr.of_up huE _ _) ?_
          clear hK K hnx x0 x1 x2
          have hoxE := obj_up (w := wD.drew) hoxD huE
          have x0 := obj_cell hoxE 0
          have x1 := obj_cell hoxE 1
          have x2 := obj_cell hoxE 2
          simp only [List.getElem?_toArray, List.getElem?_cons_zero, List.getElem?_cons_succ] at x0 x1 x2
          have f0 := obj_frozen hoxE 0
          have f1 := obj_frozen hoxE 1
          have f2 := obj_frozen hoxE 2
          iterate 3 (((with_reducible apply pir_take); (focus exact rfl); (focus exact rfl); (focus (intro w' hu; go_simp; try with_reducible rfl; done))); (simp only [Act.put, List.setIfInBounds_toArray, List.set_cons_succ, List.set_cons_zero]))
          refine pir_make rfl rfl (fun K hK => ?_)
          go_simp
          refine hK.out _ _ (fr_set3 wE xb _ _ _) ?_
          clear hK K x0 x1 x2 f0 f1 f2
          refine pir_done ?_
          have hoxF := obj_set3 hoxE (.int .i64 s2.seen) (.int .i64 s2.bad) (.slice A5 s2.pend.length c5)
          have hfF := fr_set3 wE xb (.int .i64 s2.seen) (.int .i64 s2.bad) (.slice A5 s2.pend.length c5)
          generalize ((wE.setCell ⟨xb, 0, none⟩ (.int .i64 s2.seen)).setCell ⟨xb, 1, none⟩ (.int .i64 s2.bad)).setCell ⟨xb, 2, none⟩ (.slice A5 s2.pend.length c5) = wF at *
          have hzE := huE.size
          have hzd2 : wD.drew.heap.size = wD.heap.size := rfl
          have hr6 := hr5.fr hfF (fun _ a ha => by have := hA5 a ha; omega)
          have hscF := ((hscD.up (Up.refl wD).drew).up huE).fr hfF (by omega) (by omega) (by omega) (by omega)
          have huWF := ((huWD.trans (Up.refl wD).drew).trans huE).fr hfF hz1 hz1
          have y0 := obj_cell hoxF 0
          have y1 := obj_cell hoxF 1
          have y2 := obj_cell hoxF 2
          simp only [List.getElem?_toArray, List.getElem?_cons_zero, List.getElem?_cons_succ] at y0 y1 y2
          have hsl := same_law hscF hok2 A5 c5 hr6
          simp only [agg] at hsl
          go_wp2_with fail
          refine hsl.mono ?_
          rintro e wG ⟨rfl, huG⟩
          clear y0 y1 y2 hsl
          go_wp2_with fail
          go_roundw
          case rel => exact ⟨p + 1, by omega, by go_num, k2, A5, c5, by rw [Hs2.out]; exact hscF.up huG, by rw [Hs2.out]; exact obj_up hoxF huG, by rw [Hs2.out]; exact hr6.up huG, by omega, by omega, (fun _ a ha => by have := hA5 a ha; omega), huWF.trans huG⟩
          case measure => simp [intOf]; omega
    · obtain rfl : p = len := by omega
      clear hrx hax hox hsc
      go_wp2_with fail
      refine (awake_2 _).mono ?_
      rintro e wB ⟨rfl, huB⟩
      go_wp2_with fail
      go_ret
      exact ⟨rfl, hu.trans huB⟩

end Go.Proofs.Ytdkegfookbgicaa
