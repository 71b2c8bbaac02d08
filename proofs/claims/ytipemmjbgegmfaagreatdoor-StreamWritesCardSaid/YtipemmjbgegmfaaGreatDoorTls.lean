/- The document's tails. -/
import Derived.Test.YtipemmjbgegmfaaGreatDoorRos
namespace Go.Proofs.YtipemmjbgegmfaaGreatDoor
open Go.RowKit

/-- 'next = append(next, append(append([]byte{}, x...), c))', behind each of its three appends. -/
theorem tail_step (w : World) {v : Value} {fs : List Nat} {LL : List (List UInt8)} (h : RowsAt w v fs LL) {A : Option Addr} {n c : Nat} {l : List UInt8} (hr : Rd w A c (bs l)) (hn : n = l.length) (x : UInt8) (h3 : n ≤ 16) (hL : LL.length ≤ 4096) :
    ∃ A1 c1 w1 A2 c2 w2 v3 w3 fs3,
      (Builtin.append_ #[31, 31] 31 #[.slice (some ⟨w.heap.size, 0, none⟩) 0 0, .slice A n c]).run Tryz.prog (w.alloc (.cells #[] 5)) = .ok (.slice A1 n c1) w1 ∧
      (Builtin.append_ #[31, 31] 31 #[.slice A1 n c1, .slice (some ⟨w1.heap.size, 0, none⟩) 1 1]).run Tryz.prog (w1.alloc (.cells #[.int .u8 (x.toNat : Int)] 5)) = .ok (.slice A2 (n + 1) c2) w2 ∧
      (Builtin.append_ #[22, 22] 22 #[v, .slice (some ⟨w2.heap.size, 0, none⟩) 1 1]).run Tryz.prog (w2.alloc (.cells #[.slice A2 (n + 1) c2] 31)) = .ok v3 w3 ∧
      RowsAt w3 v3 fs3 (LL ++ [l ++ [x]]) ∧ Fx (fun b => b ∈ fs) w w3 ∧ ∀ b ∈ fs3, b ∈ fs ∨ w.heap.size ≤ b := by
  obtain ⟨A1, c1, w1, hrun1, _, hu1, hown1⟩ := elB.copy w 31 hr (m := n) (by rw [bs_len]; exact hn) (one_bs l) (by omega) (by decide)
  have hr2 := Rd.new w1 #[.int .u8 (x.toNat : Int)] 5 (n := 1) (xs := bs [x]) rfl rfl (by unfold maxLen; omega)
  obtain ⟨v2, w2, hrun2, hown2, hgr2, hb2⟩ := elB.app (w1.alloc (.cells #[.int .u8 (x.toNat : Int)] 5)) 31 (m := 1) (hown1.alloc _) hr2 rfl (one_bs _) (by omega) (by decide) (by simp; exact Nat.le_succ_of_le hu1.size)
  rw [← bs_append] at hown2
  obtain ⟨A2, c2, rfl, _⟩ := own_rd hown2
  have hs1 := hu1.size
  have hge : ∀ b ∈ vb (.slice A2 (n + 1) c2), w.heap.size ≤ b := fun b hb => (World.ownsRow.lt hown2 b (mem_vb.1 hb)).1
  have hu2 : Up w w2 := Below.grown ((hu1.trans ((Up.refl w1).alloc _))) hgr2 (by simp; omega) (fun b hb => (World.ownsRow.lt hown1 b hb).1)
  have hO : Own w2 (.slice A2 (n + 1) c2) (l ++ [x]) := by
    have := own_base hown2 (Nat.zero_le _)
    unfold Own
    rw [List.length_append, List.length_singleton, ← hn]
    exact this
  have hz : (w2.alloc (.cells #[.slice A2 (n + 1) c2] 31)).heap.size = w2.heap.size + 1 := by simp
  have hr3 := Rd.new w2 #[.slice A2 (n + 1) c2] 31 (n := 1) (xs := [.slice A2 (n + 1) c2]) rfl rfl (by unfold maxLen; omega)
  have hlt := h.lt
  have hs2 := hu2.size
  obtain ⟨v3, w3, fs3, hrun3, hrows, hfx, hfs⟩ := ((h.up hu2).up ((Up.refl w2).alloc (.cells #[.slice A2 (n + 1) c2] 31))).app 22 (LN := [l ++ [x]]) (insN := vb (.slice A2 (n + 1) c2)) (m := 1) hr3 rfl rfl (fun i hi => by
      obtain rfl : i = 0 := by simpa using hi
      exact ⟨_, rfl, hO.alloc _, fun b hb => hb⟩) (fun b hb => ⟨by have := hO.lt b hb; omega, fun hf => by have := hge b hb; have := hlt b hf; omega⟩) (by omega)
  refine ⟨A1, c1, w1, A2, c2, w2, v3, w3, fs3, hrun1, hrun2, hrun3, hrows, (Fx.of_up (hu2.trans ((Up.refl w2).alloc _))).trans hfx, fun b hb => ?_⟩
  rcases hfs b hb with h | h | h
  · exact .inl h
  · exact .inr (hge b h)
  · exact .inr (by omega)

def b5 : List UInt8 := [128, 143, 158, 173, 188]
theorem b5_get (r : Nat) (h : r < 5) (h' : r < b5.length) : b5[r].toNat = 128 + 15 * r := by
  match r, h with
  | 0, _ => rfl
  | 1, _ => rfl
  | 2, _ => rfl
  | 3, _ => rfl
  | 4, _ => rfl

theorem Own.sli {w : World} {v : Value} {l : List UInt8} (h : Own w v l) : ∃ A n c, v = .slice A n c := by
  obtain ⟨A, c, hv, _⟩ := h.rd
  exact ⟨A, _, c, hv⟩
theorem RowsAt.sli {w : World} {v : Value} {fs : List Nat} {LL : List (List UInt8)} (h : RowsAt w v fs LL) : ∃ A n c, v = .slice A n c := by
  obtain ⟨A, c, hv, _⟩ := h.val
  exact ⟨A, _, c, hv⟩

theorem tails_len : ∀ p, (U.tails p).length = 8 ^ p
  | 0 => rfl
  | p + 1 => by
    unfold U.tails
    rw [List.length_flatMap]
    have : ∀ L : List (List UInt8), (L.map fun t => (U.tailB.map fun x => t ++ [x]).length).sum = 8 * L.length := fun L => by
      induction L with
      | nil => rfl
      | cons t L ih => rw [List.map_cons, List.sum_cons, ih, List.length_map, List.length_cons]; show 8 + _ = _; omega
    rw [this, tails_len p, Nat.pow_succ]; omega

def tF (t : List UInt8) : List (List UInt8) := U.tailB.map fun x => t ++ [x]
theorem tF_eq (t : List UInt8) : tF t = b5.map (fun x => t ++ [x]) ++ [t ++ [144], t ++ [160], t ++ [191]] := rfl

theorem tails_at (p : Nat) (i : Nat) (h : i < (U.tails p).length) : (U.tails p)[i].length = p := U.tails_len p _ (List.getElem_mem h)
theorem tls_take {α β : Type} (L : List α) (F : α → List β) (q : Nat) (h : q < L.length) : (L.take (q + 1)).flatMap F = (L.take q).flatMap F ++ F L[q] := by
  rw [List.take_succ_eq_append_getElem h, List.flatMap_append]; simp
theorem tls_len (L : List (List UInt8)) : (L.flatMap tF).length = 8 * L.length := by
  induction L with
  | nil => rfl
  | cons t L ih => rw [List.flatMap_cons, List.length_append, ih, List.length_cons]; show 8 + _ = _; omega
theorem map_take (t : List UInt8) (r : Nat) (h : r < b5.length) : (b5.take (r + 1)).map (fun x => t ++ [x]) = (b5.take r).map (fun x => t ++ [x]) ++ [t ++ [b5[r]]] := by
  rw [List.take_succ_eq_append_getElem h, List.map_append]; rfl

theorem fx_up {w0 w w' : World} {fs : List Nat} (h : Up w0 w) (h2 : Fx (fun b => b ∈ fs) w w') (hf : ∀ b ∈ fs, w0.heap.size ≤ b) : Up w0 w' :=
  ⟨h2.os.trans h.os, h2.tape.trans h.tape, h2.output.trans h.output, Nat.le_trans h.size h2.size, fun i hi => by
    have := h.size
    rw [h2.block i (by omega) (fun hm => by have := hf i hm; omega)]; exact h.block i hi⟩

/-- Which operations' values each operation of tails' great statement takes over; 28: what was there. -/
def tcons : Nat → List Nat
  | 6 => [1] | 8 => [6, 7] | 14 => [9] | 16 => [14, 15] | 22 => [17] | 24 => [22, 23] | 25 => [8, 16, 24] | 26 => [25, 28] | 27 => [26] | _ => []
theorem tcons27 (j : Nat) : 27 ∉ tcons j := by unfold tcons; split <;> simp
def tds : List (Nat × Tmp) := [(1, 39), (6, 44), (7, 45), (8, 46), (9, 47), (14, 52), (15, 53), (16, 54), (17, 55), (22, 60), (23, 61), (24, 62), (25, 63), (26, 64), (27, 5)]
def tkd (t : List UInt8) (LL : List (List UInt8)) : Nat → Kd
  | 1 => .own [] | 9 => .own [] | 17 => .own []
  | 6 => .own ([] ++ t) | 14 => .own ([] ++ t) | 22 => .own ([] ++ t)
  | 7 => .own [144] | 15 => .own [160] | 23 => .own [191]
  | 8 => .own (([] ++ t) ++ [144]) | 16 => .own (([] ++ t) ++ [160]) | 24 => .own (([] ++ t) ++ [191])
  | 25 => .rows [([] ++ t) ++ [144], ([] ++ t) ++ [160], ([] ++ t) ++ [191]]
  | 26 => .rows (LL ++ [([] ++ t) ++ [144], ([] ++ t) ++ [160], ([] ++ t) ++ [191]]) | 27 => .rows (LL ++ [([] ++ t) ++ [144], ([] ++ t) ++ [160], ([] ++ t) ++ [191]])
  | 28 => .rows LL
  | _ => .no
def tPhi (t : List UInt8) (LL : List (List UInt8)) (nx : Value) (i : Nat) (v : Value) (fs : List Nat) (w : World) : Prop := (tkd t LL i).at v fs w ∧ (i = 28 → v = nx)

set_option maxRecDepth 100000 in
set_option maxHeartbeats 3200000 in
theorem tails_ref (w : World) (m : Nat) (hm : m ≤ 3) : Calls Tryz.prog 31 #[.int .i64 m] w fun e w' => ∃ v fs, e = .returned v ∧ RowsAt w' v fs (U.tails m) ∧ Up w w' ∧ ∀ b ∈ fs, w.heap.size ≤ b := by
  go_enter Tryz.func31, Tryz.ntmps31
  go_wp2
  go_loopw [3, 4] (fun o i wr => ∃ p : Nat, p ≤ m ∧ i = .int .i64 p ∧ ∃ fs, RowsAt wr o fs (U.tails p) ∧ (∀ b ∈ fs, w.heap.size ≤ b) ∧ Up w wr) (fun _ i _ => m - (intOf i).toNat)
  case atStart =>
    refine ⟨0, by omega, rfl, [w.heap.size + 1, w.heap.size], ⟨[.slice (some ⟨w.heap.size, 0, none⟩) 0 0], [w.heap.size], rfl, ⟨rfl, .inr ⟨w.heap.size + 1, 1, #[.slice (some ⟨w.heap.size, 0, none⟩) 0 0], rfl, Nat.zero_le _, heap_alloc2_new w _ _, Nat.le_refl _, by unfold maxLen; decide, rfl, rfl⟩⟩, fun i hi => ?_, fun b hb hn => ?_, rfl, fun b hb => ?_⟩, fun b hb => ?_, ((Up.refl w).alloc _).alloc _⟩
    · obtain rfl : i = 0 := by have : i < 1 := hi; omega
      exact ⟨_, rfl, ⟨rfl, .inr ⟨w.heap.size, 0, #[], rfl, Nat.zero_le _, heap_alloc2_old w _ _, Nat.le_refl _, Nat.zero_le _, rfl, rfl⟩⟩, fun b hb => hb⟩
    · have e : w.heap.size + 1 = b := Option.some.inj (mem_vb.1 hb)
      simp at hn; omega
    · simp at hb ⊢; omega
    · simp at hb; omega
  case round =>
    obtain ⟨p, hpm, rfl, fs, hrow, hfs, hu⟩ := hrel
    generalize wr = wA at *
    obtain ⟨A0, c0, rfl, hc0, hcm⟩ := hrow.val
    by_cases hlt : p < m
    · have hL := tails_len p
      have hL2 : (U.tails p).length ≤ 64 := by
        rw [hL]
        have : 8 ^ p ≤ 8 ^ 2 := Nat.pow_le_pow_right (by decide) (by omega)
        omega
      have hat := tails_at p
      have hnx : U.tails (p + 1) = (U.tails p).flatMap tF := rfl
      have Hnx := Lib.hid hnx
      clear hL hnx
      have hT0 : 0 < (U.tails p).length := by rw [tails_len p]; exact Nat.pow_pos (by decide)
      generalize U.tails p = T at *
      obtain ⟨g, cap, hv⟩ : ∃ g cap, Value.slice A0 T.length c0 = .slice (some ⟨g, 0, none⟩) T.length cap := by
        obtain ⟨g, cap, _, _, hv, _⟩ := hrow.get 0 hT0
        exact ⟨g, cap, hv⟩
      injection hv with e1 e2 e3
      subst e1 e3
      clear e2 hT0
      go_wp2
      go_loopw [5, 6] (fun nx k w2 => ∃ q : Nat, q ≤ T.length ∧ k = .int .i64 q ∧ ∃ fsN, RowsAt w2 nx fsN ((T.take q).flatMap tF) ∧ (∀ b ∈ fsN, wA.heap.size ≤ b) ∧ Up wA w2) (fun _ k _ => T.length - (intOf k).toNat)
      case atStart => exact ⟨0, by omega, rfl, [], RowsAt.nil _, (fun b hb => by cases hb), Up.refl _⟩
      case round =>
        obtain ⟨q, hqT, rfl, fsN, hrowN, hfsN, huN⟩ := hrel
        generalize wr = wB at *
        by_cases hq : q < T.length
        · have hlen := hat q hq
          go_wp2
          go_loopw [5, 7] (fun nx c w3 => ∃ r y : Nat, r ≤ 5 ∧ y = 128 + 15 * r ∧ c = .int .i64 y ∧ ∃ fs3, RowsAt w3 nx fs3 ((T.take q).flatMap tF ++ (b5.take r).map fun x => T[q] ++ [x]) ∧ (∀ b ∈ fs3, wA.heap.size ≤ b) ∧ Up wA w3) (fun _ c _ => 203 - (intOf c).toNat)
          case atStart => exact ⟨0, 128, by omega, by omega, rfl, fsN, by simpa using hrowN, hfsN, huN⟩
          case round =>
            obtain ⟨r, y, hr5, hy, rfl, fs3, hrow3, hfs3, hu3⟩ := hrel
            generalize wr = wC at *
            have hrowO := hrow.up hu3
            obtain ⟨g', cap', A, c, hv, hc1, hc2, hcell, hrd, hbl, hg⟩ := hrowO.get q hq
            injection hv with e1 e2 e3
            injection e1 with e1
            injection e1 with e1
            subst e1 e3
            rw [hlen] at hcell
            by_cases hr : r < 5
            · have hrb : r < b5.length := hr
              have hxy := b5_get r hr hrb
              have hmt := map_take T[q] r hrb
              have hl3 : ((T.take q).flatMap tF ++ (b5.take r).map fun x => T[q] ++ [x]).length ≤ 4096 := by
                rw [List.length_append, tls_len, List.length_map, List.length_take, List.length_take]
                omega
              obtain ⟨A1, c1, w1, A2, c2, w2', v3, w3', fs4, q1, q2, q3, hrow4, hfx4, hfs4⟩ := tail_step wC hrow3 hrd (n := p) hlen.symm b5[r] (by omega) hl3
              rw [List.append_assoc, ← hmt] at hrow4
              rw [hxy, ← hy] at q2
              obtain ⟨A3, N3, c3, rfl⟩ := hrow4.sli
              obtain ⟨A5, N5, c5, rfl⟩ := hrow3.sli
              have hgl := hrowO.lt g hg
              have Q1 := Lib.hid q1
              have Q2 := Lib.hid q2
              have Q3 := Lib.hid q3
              have HY := Lib.hid hy
              have hy2 : y ≤ 188 := by omega
              clear q1 q2 q3 hy hxy hmt hl3 hbl hg e2
              have tok : True := trivial
              have tok2 : True := trivial
              have hw1 := Lib.hid hrow4
              have hw2 := Lib.hid hfx4
              have hw3 := Lib.hid hrow3
              have hw4 := Lib.hid hrowO
              have hw5 := Lib.hid hrd
              clear hrow4 hfx4 hrow3 hrowO hrd
              go_wp2_with (first | (at_builtin; have _t := tok; refine wpList_app rfl _ _ _ rfl rfl rfl Q1.out ?_; clear tok) | (at_builtin; have _t := tok2; refine wpList_app rfl _ _ _ rfl rfl rfl Q2.out ?_; clear tok2) | (at_builtin; refine wpList_app rfl _ _ _ rfl rfl rfl Q3.out ?_))
              go_roundw
              case rel =>
                refine ⟨r + 1, y + 15, by omega, by have := HY.out; omega, by go_num, fs4, hw1.out, fun b hb => ?_, fx_up hu3 hw2.out hfs3⟩
                rcases hfs4 b hb with h | h
                · exact hfs3 b h
                · exact Nat.le_trans hu3.size h
              case measure => simp [intOf]; omega
            · obtain rfl : r = 5 := by omega
              obtain rfl : y = 203 := by omega
              have hgl := hrowO.lt g hg
              have hgA := hrow.lt
              have hgn : g ∉ fs3 := fun hm => by
                have h1 := hfs3 g hm
                obtain ⟨g2, cap2, _, _, hv2, _, _, _, _, _, hg2⟩ := hrow.get q hq
                injection hv2 with e1
                injection e1 with e1
                injection e1 with e1
                subst e1
                have := hgA g hg2
                omega
              have HC := Lib.hid (fun w' (hu : Fx (fun b => b ∈ fs3) wC.drew w') => (World.cell?_of_block (a := ⟨g, q, none⟩) (hu.block g hgl hgn)).trans hcell)
              obtain ⟨A5, N5, c5, rfl⟩ := hrow3.sli
              have hnx : 0 < c → ∀ a, A = some a → ¬ a.block ∈ fs3 := fun hc a ha hm => by
                have h1 := hfs3 _ hm
                obtain ⟨g2, cap2, A9, c9, hv2, _, _, hcc, _, hbb, hg2⟩ := (hrow.get q hq)
                injection hv2 with e1
                injection e1 with e1
                injection e1 with e1
                subst e1
                have hsame := World.cell?_of_block (w := wA) (w' := wC) (a := ⟨g, q, none⟩) (hu3.block g (hgA g hg2))
                rw [hcell, hcc] at hsame
                injection hsame with e2
                injection e2 with e3 e4 e5
                subst e3 e5
                have := hgA _ (hbb hc a ha)
                omega
              have HNX := Lib.hid hnx
              have hll : ((T.take q).flatMap tF ++ (b5.take 5).map fun x => T[q] ++ [x]).length + 3 ≤ 10000 := by
                rw [List.length_append, tls_len, List.length_map, List.length_take, List.length_take]
                omega
              obtain ⟨LL5, hLL5⟩ : ∃ LL5, ((T.take q).flatMap tF ++ (b5.take 5).map fun x => T[q] ++ [x]) = LL5 := ⟨_, rfl⟩
              obtain ⟨t, ht⟩ : ∃ t, T[q] = t := ⟨_, rfl⟩
              rw [hLL5] at hrow3 hll
              rw [ht] at hrd hlen
              have HLL5 := Lib.hid hLL5
              have HT := Lib.hid ht
              clear hcell hnx hLL5 ht
              go_wp2
              refine wp_region_lin (fun b => b ∈ fs3) [0, 2, 3, 4, 5, 10, 11, 12, 13, 18, 19, 20, 21] (by kernel_rfl) (by kernel_rfl) (fun _ _ d _ _ h => by cases d <;> exact h) ?_
              iterate 13 (((with_reducible apply tk_take); (focus exact rfl); (focus exact rfl); (focus (intro w' hu; have hcx := HC.out w' hu; go_simp; try with_reducible rfl; done))); (simp only [Act.put, List.setIfInBounds_toArray, List.set_cons_succ, List.set_cons_zero]))
              refine tk_done ?_
              have HRX := Lib.hid (fun w' (hu : Fx (fun b => b ∈ fs3) wC.drew w') => Fx.rd (hrd.up (Up.refl wC).drew) hu (fun hc a ha => HNX.out hc a ha))
              have HLL := Lib.hid hll
              refine lin_go [1, 6, 7, 8, 9, 14, 15, 16, 17, 22, 23, 24, 25, 26, 27] tcons tds (tPhi t LL5 (.slice A5 N5 c5)) (fun _ => .slice A5 N5 c5) (fun i => if i = 28 then fs3 else []) (by kernel_rfl) (fun i hi => ?_) (fun i i' hi hi' hne b hb => ?_) (fun i v fs w w' h hs hz _ _ => ⟨Kd.same _ h.1 hs hz, h.2⟩) (fun j hj => ?_) (fun w g f hd hfx => ?_)
              · by_cases h28 : i = 28
                · subst h28
                  exact ⟨⟨hrow3.up (Up.refl wC).drew, fun _ => rfl⟩, fun b hb => ⟨hrow3.lt b hb, hb⟩⟩
                · rw [if_neg h28]
                  refine ⟨⟨?_, fun h => absurd h h28⟩, fun b hb => by cases hb⟩
                  have h29 : 29 ≤ i := by have : (28 : Nat) ≤ i := hi; omega
                  obtain ⟨i', rfl⟩ : ∃ i', i = i' + 29 := ⟨i - 29, by omega⟩
                  exact rfl
              · by_cases h28 : i = 28
                · by_cases h28' : i' = 28
                  · exact absurd (h28.trans h28'.symm) hne
                  · rw [if_neg h28']; exact fun h => by cases h
                · rw [if_neg h28] at hb; cases hb
              · simp only [List.mem_cons, List.not_mem_nil, or_false] at hj
                rcases hj with rfl | rfl | rfl | rfl | rfl | rfl | rfl | rfl | rfl | rfl | rfl | rfl | rfl | rfl | rfl
                · refine ⟨_, rfl, fun a w g f k1 k2 k3 k4 k5 k6 => ?_⟩
                  go_simp
                  exact lin_lit [] 0 rfl (fun _ _ h => ⟨⟨h, rfl⟩, fun h => by cases h⟩) #[] rfl (by omega)
                · refine ⟨_, rfl, fun a w g f k1 k2 k3 k4 k5 k6 => ?_⟩
                  obtain ⟨⟨h1, h2⟩, _⟩ := k3 1 (by decide)
                  have hx : a.tmps[43]? = some (.slice A p c) := (k1 43 (by decide)).trans rfl
                  refine lin_app (.tmp 39) (.tmp 43) rfl (eval_tmp (k2 1 (by decide) 39 (by decide) (show 39 < 67 by decide))) (eval_tmp hx) h1 (HRX.out w k6) hlen.symm (by show 0 + p ≤ 1000; omega) (i := 1) (by decide) h2 (fun _ _ h => ⟨⟨h, rfl⟩, fun h => by cases h⟩)
                · refine ⟨_, rfl, fun a w g f k1 k2 k3 k4 k5 k6 => ?_⟩
                  go_simp
                  exact lin_lit [144] 1 rfl (fun _ _ h => ⟨⟨h, rfl⟩, fun h => by cases h⟩) #[.int .u8 144] rfl (by omega)
                · refine ⟨_, rfl, fun a w g f k1 k2 k3 k4 k5 k6 => ?_⟩
                  obtain ⟨⟨h1, h2⟩, _⟩ := k3 6 (by decide)
                  obtain ⟨⟨h3, h4⟩, _⟩ := k3 7 (by decide)
                  obtain ⟨A9, c9, hv9, hr9⟩ := h3.rd
                  have hx := eval_tmp (k2 7 (by decide) 45 (by decide) (show 45 < 67 by decide))
                  rw [hv9] at hx
                  refine lin_app (.tmp 44) (.tmp 45) rfl (eval_tmp (k2 6 (by decide) 44 (by decide) (show 44 < 67 by decide))) hx h1 hr9 rfl (by show ([] ++ t).length + 1 ≤ 1000; rw [List.nil_append, hlen]; omega) (i := 6) (by decide) h2 (fun _ _ h => ⟨⟨h, rfl⟩, fun h => by cases h⟩)
                · refine ⟨_, rfl, fun a w g f k1 k2 k3 k4 k5 k6 => ?_⟩
                  go_simp
                  exact lin_lit [] 0 rfl (fun _ _ h => ⟨⟨h, rfl⟩, fun h => by cases h⟩) #[] rfl (by omega)
                · refine ⟨_, rfl, fun a w g f k1 k2 k3 k4 k5 k6 => ?_⟩
                  obtain ⟨⟨h1, h2⟩, _⟩ := k3 9 (by decide)
                  have hx : a.tmps[51]? = some (.slice A p c) := (k1 51 (by decide)).trans rfl
                  refine lin_app (.tmp 47) (.tmp 51) rfl (eval_tmp (k2 9 (by decide) 47 (by decide) (show 47 < 67 by decide))) (eval_tmp hx) h1 (HRX.out w k6) hlen.symm (by show 0 + p ≤ 1000; omega) (i := 9) (by decide) h2 (fun _ _ h => ⟨⟨h, rfl⟩, fun h => by cases h⟩)
                · refine ⟨_, rfl, fun a w g f k1 k2 k3 k4 k5 k6 => ?_⟩
                  go_simp
                  exact lin_lit [160] 1 rfl (fun _ _ h => ⟨⟨h, rfl⟩, fun h => by cases h⟩) #[.int .u8 160] rfl (by omega)
                · refine ⟨_, rfl, fun a w g f k1 k2 k3 k4 k5 k6 => ?_⟩
                  obtain ⟨⟨h1, h2⟩, _⟩ := k3 14 (by decide)
                  obtain ⟨⟨h3, h4⟩, _⟩ := k3 15 (by decide)
                  obtain ⟨A9, c9, hv9, hr9⟩ := h3.rd
                  have hx := eval_tmp (k2 15 (by decide) 53 (by decide) (show 53 < 67 by decide))
                  rw [hv9] at hx
                  refine lin_app (.tmp 52) (.tmp 53) rfl (eval_tmp (k2 14 (by decide) 52 (by decide) (show 52 < 67 by decide))) hx h1 hr9 rfl (by show ([] ++ t).length + 1 ≤ 1000; rw [List.nil_append, hlen]; omega) (i := 14) (by decide) h2 (fun _ _ h => ⟨⟨h, rfl⟩, fun h => by cases h⟩)
                · refine ⟨_, rfl, fun a w g f k1 k2 k3 k4 k5 k6 => ?_⟩
                  go_simp
                  exact lin_lit [] 0 rfl (fun _ _ h => ⟨⟨h, rfl⟩, fun h => by cases h⟩) #[] rfl (by omega)
                · refine ⟨_, rfl, fun a w g f k1 k2 k3 k4 k5 k6 => ?_⟩
                  obtain ⟨⟨h1, h2⟩, _⟩ := k3 17 (by decide)
                  have hx : a.tmps[59]? = some (.slice A p c) := (k1 59 (by decide)).trans rfl
                  refine lin_app (.tmp 55) (.tmp 59) rfl (eval_tmp (k2 17 (by decide) 55 (by decide) (show 55 < 67 by decide))) (eval_tmp hx) h1 (HRX.out w k6) hlen.symm (by show 0 + p ≤ 1000; omega) (i := 17) (by decide) h2 (fun _ _ h => ⟨⟨h, rfl⟩, fun h => by cases h⟩)
                · refine ⟨_, rfl, fun a w g f k1 k2 k3 k4 k5 k6 => ?_⟩
                  go_simp
                  exact lin_lit [191] 1 rfl (fun _ _ h => ⟨⟨h, rfl⟩, fun h => by cases h⟩) #[.int .u8 191] rfl (by omega)
                · refine ⟨_, rfl, fun a w g f k1 k2 k3 k4 k5 k6 => ?_⟩
                  obtain ⟨⟨h1, h2⟩, _⟩ := k3 22 (by decide)
                  obtain ⟨⟨h3, h4⟩, _⟩ := k3 23 (by decide)
                  obtain ⟨A9, c9, hv9, hr9⟩ := h3.rd
                  have hx := eval_tmp (k2 23 (by decide) 61 (by decide) (show 61 < 67 by decide))
                  rw [hv9] at hx
                  refine lin_app (.tmp 60) (.tmp 61) rfl (eval_tmp (k2 22 (by decide) 60 (by decide) (show 60 < 67 by decide))) hx h1 hr9 rfl (by show ([] ++ t).length + 1 ≤ 1000; rw [List.nil_append, hlen]; omega) (i := 22) (by decide) h2 (fun _ _ h => ⟨⟨h, rfl⟩, fun h => by cases h⟩)
                · refine ⟨_, rfl, fun a w g f k1 k2 k3 k4 k5 k6 => ?_⟩
                  obtain ⟨⟨h8, m8⟩, _⟩ := k3 8 (by decide)
                  obtain ⟨⟨h16, m16⟩, _⟩ := k3 16 (by decide)
                  obtain ⟨⟨h24, m24⟩, _⟩ := k3 24 (by decide)
                  have x8 := (k2 8 (by decide) 46 (by decide) (show 46 < 67 by decide))
                  have x16 := (k2 16 (by decide) 54 (by decide) (show 54 < 67 by decide))
                  have x24 := (k2 24 (by decide) 62 (by decide) (show 62 < 67 by decide))
                  obtain ⟨B8, n8, d8, v8⟩ := h8.sli
                  obtain ⟨B16, n16, d16, v16⟩ := h16.sli
                  obtain ⟨B24, n24, d24, v24⟩ := h24.sli
                  have hL := lin_three (Φ := tPhi t LL5 (.slice A5 N5 c5)) (j := 25) (cons := tcons) (o := {  dst := some 63, op := .buildSlice 22 3 #[(0, .tmp 46), (1, .tmp 54), (2, .tmp 62)], type := 22, pos := "", after := #[], guard := none }) (a := a) (f := f) h8 h16 h24 (i1 := 8) (i2 := 16) (i3 := 24) (by decide) (by decide) (by decide) m8 m16 m24 (fun _ _ _ h => ⟨h, fun h => by cases h⟩)
                  rw [v8] at x8 hL
                  rw [v16] at x16 hL
                  rw [v24] at x24 hL
                  go_simp
                  exact hL
                · refine ⟨_, rfl, fun a w g f k1 k2 k3 k4 k5 k6 => ?_⟩
                  obtain ⟨h1, _⟩ := k3 25 (by decide)
                  obtain ⟨h2, h3⟩ := k3 28 (by decide)
                  have hx : a.tmps[38]? = some (.slice A5 N5 c5) := (k1 38 (by decide)).trans rfl
                  rw [h3 rfl] at h2
                  refine lin_rows (.tmp 38) (.tmp 63) rfl (eval_tmp hx) (eval_tmp (k2 25 (by decide) 63 (by decide) (show 63 < 67 by decide))) h2 h1 HLL.out (i := 28) (i' := 25) (by decide) rfl (by decide) rfl (k5 25 (by decide) 28 (by decide) (by decide)) (fun _ _ _ h => ⟨h, fun h => by cases h⟩)
                · refine ⟨_, rfl, fun a w g f k1 k2 k3 k4 k5 k6 => ?_⟩
                  obtain ⟨h1, _⟩ := k3 26 (by decide)
                  have hx := (k2 26 (by decide) 64 (by decide) (show 64 < 67 by decide))
                  go_simp
                  exact ⟨_, f 26, rfl, ⟨h1, fun h => by cases h⟩, fun b hb => ⟨(k4 26 (by decide) b hb).1, .inr ⟨26, by decide, hb⟩⟩, Fx.refl _ _⟩
              · have hq27 := hd 27 (.inr (of_decide_eq_true (by kernel_rfl))) (fun j _ => tcons27 j)
                obtain ⟨A7, N7, c7, hv7⟩ := RowsAt.sli hq27.1.1
                have hrow7 : RowsAt w (g 27) (f 27) _ := hq27.1.1
                have hb7 := hq27.2
                simp only [fillD, tds, List.foldl_cons, List.foldl_nil, Act.put, List.setIfInBounds_toArray, List.set_cons_succ, List.set_cons_zero]
                rw [hv7] at hrow7 ⊢
                have Hrow7 := Lib.hid hrow7
                have Hb7 := Lib.hid hb7
                have Hu7 := Lib.hid (fx_up (hu3.drew) hfx hfs3)
                have Htk := Lib.hid (tls_take T tF q hq)
                clear hrow7 hb7 hq27 hd hfx
                go_wp2
                go_roundw
                case rel =>
                  refine ⟨q + 1, by omega, by go_num, f 27, ?_, fun b hb => ?_, Hu7.out⟩
                  · rw [Htk.out, tF_eq, ← List.append_assoc, HT.out]
                    have e := HLL5.out
                    rw [HT.out, show b5.take 5 = b5 from rfl] at e
                    rw [e]
                    exact Hrow7.out
                  · rcases (Hb7.out b hb).2 with h | h
                    · exact Nat.le_trans hu3.size h
                    · exact hfs3 b h
                case measure => simp [intOf]; omega
        · obtain rfl : q = T.length := by omega
          obtain ⟨A7, N7, c7, rfl⟩ := hrowN.sli
          rw [List.take_of_length_le (Nat.le_refl _)] at hrowN
          have Hrow7 := Lib.hid hrowN
          clear hrowN
          go_wp2
          go_roundw
          case rel => exact ⟨p + 1, by omega, by go_num, fsN, by rw [Hnx.out]; exact Hrow7.out, fun b hb => Nat.le_trans hu.size (hfsN b hb), hu.trans huN⟩
          case measure => simp [intOf]; omega
    · obtain rfl : p = m := by omega
      go_wp2
      go_ret
      exact ⟨_, fs, rfl, hrow, hu, hfs⟩

end Go.Proofs.YtipemmjbgegmfaaGreatDoor
