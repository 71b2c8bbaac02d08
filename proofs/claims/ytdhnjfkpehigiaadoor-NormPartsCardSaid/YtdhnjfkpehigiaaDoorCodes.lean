/- code.Codes and the document's Codes: the code points of bytes. -/
import Derived.Test.YtdhnjfkpehigiaaDoorBytes
import Derived.Test.YtdhnjfkpehigiaaDoorRfault
import Derived.Lib.OthersKept
import Derived.WalkSmall
namespace Go.Proofs.YtdhnjfkpehigiaaDoor
open Go.RowKit

/-- What both leave. -/
def CodesP (l : List UInt8) (w : World) (e : Ending) (w' : World) : Prop :=
  Up w w' ∧ ((∃ cs A c, U.Cps cs ∧ l = U.encs cs ∧ e = .returned (.tuple #[.slice A cs.length c, .int .i64 0]) ∧ Rd w' A c (us cs)) ∨
    (0 ≤ U.fault l ∧ e = .returned (.tuple #[.slice none 0 0, .int .i64 6])))

theorem U.decode_encs {cs : List Nat} (h : U.Cps cs) {k : Nat} (hk : k < cs.length) : Utf8.decode ⟨(U.encs cs).toArray⟩ (U.encs (cs.take k)).length = (cs[k], U.wid cs[k]) := by
  rw [U.decode_eq]
  show U.dec ((U.encs cs).drop _) = _
  have e : cs = cs.take k ++ (cs[k] :: cs.drop (k + 1)) := by
    rw [List.getElem_cons_drop, List.take_append_drop]
  conv => lhs; rw [show U.encs cs = U.encs (cs.take k) ++ (U.enc cs[k] ++ U.encs (cs.drop (k + 1))) by rw [← U.encs_cons, ← U.encs_append, ← e]]
  rw [List.drop_left]
  exact U.dec_enc (h _ (List.getElem_mem hk)) _

theorem U.encs_lt {cs : List Nat} (h : U.Cps cs) {k : Nat} (hk : k < cs.length) : (U.encs (cs.take k)).length < (U.encs cs).length := by
  have e : cs = cs.take k ++ (cs[k] :: cs.drop (k + 1)) := by
    rw [List.getElem_cons_drop, List.take_append_drop]
  have := U.enc_pos (h _ (List.getElem_mem hk))
  conv => rhs; rw [show U.encs cs = U.encs (cs.take k) ++ (U.enc cs[k] ++ U.encs (cs.drop (k + 1))) by rw [← U.encs_cons, ← U.encs_append, ← e]]
  simp only [List.length_append]
  omega

theorem us_snoc {l : List Nat} {k : Nat} (h : k < l.length) : us (l.take (k + 1)) = us (l.take k) ++ [.int .u32 (l[k] : Int)] := by
  rw [U.take_snoc h, us_append]; rfl

/-- The iterator moves; all else stays. -/
theorem iterAt_other (w : World) (B : Nat) (s : ByteArray) (p k : Nat) (h : k ≠ B) : (w.iterAt B s p).heap[k]? = w.heap[k]? := by
  show (w.heap.setIfInBounds B _)[k]? = _
  rw [Array.getElem?_setIfInBounds_ne (by omega)]
theorem iterAt_same (w : World) (B : Nat) (s : ByteArray) (p : Nat) (h : B < w.heap.size) : (w.iterAt B s p).heap[B]? = some (.stringIter s p) := by
  show (w.heap.setIfInBounds B _)[B]? = _
  simp [h]
theorem iterAt_up {w wr : World} (h : Up w wr) {B : Nat} (hB : w.heap.size ≤ B) (s : ByteArray) (p : Nat) : Up w (wr.iterAt B s p) :=
  ⟨h.os, h.tape, h.output, by show _ ≤ (wr.heap.setIfInBounds B _).size; simp [h.size], fun k hk => (iterAt_other wr B s p k (by omega)).trans (h.block k hk)⟩
theorem iterAt_size (w : World) (B : Nat) (s : ByteArray) (p : Nat) : (w.iterAt B s p).heap.size = w.heap.size := by
  show (w.heap.setIfInBounds B _).size = _
  simp

/-- One element appended to what is owned: the element's own block is laid first. -/
theorem El.pushOne {T E : TypeId} {b : Nat} (h : El T E b) (w : World) (ty : TypeId) {base : Nat} {v : Value} {n : Nat} {xs : List Value} (hown : w.ownsRow base E 1 v n xs) (x : Value) (hx : x.oneCell' = true)
    (hb : (n + 1) * b ≤ 140737488355328) (hb0 : 0 < b) (hbase : base ≤ w.heap.size) :
    ∃ v' w', (Builtin.append_ #[T, T] ty #[v, .slice (some ⟨w.heap.size, 0, none⟩) 1 1]).run Tryd.prog (w.alloc (.cells #[x] E)) = .ok v' w' ∧ w'.ownsRow base E 1 v' (n + 1) (xs ++ [x]) ∧
      (w.alloc (.cells #[x] E)).grownBy w' v.ownBlock := by
  obtain ⟨v', w', h1, h2, h3, _⟩ := h.app (m := 1) (news := [x]) (w.alloc (.cells #[x] E)) ty (hown.alloc _) (Rd.new (n := 1) w #[x] E rfl rfl (by unfold maxLen; omega)) rfl (fun u hu => by rw [List.mem_singleton.1 hu]; exact hx) hb hb0 (by simp; omega)
  exact ⟨v', w', h1, h2, h3⟩

set_option maxRecDepth 100000 in
set_option maxHeartbeats 400000 in
theorem codes_code_of (A : Option Addr) (c n : Nat) (l : List UInt8) (w : World) (h : Rd w A c (bs l)) (hn : n = l.length) (hb : ∀ cs, U.Cps cs → l = U.encs cs → cs.length ≤ 35184372088832) :
    Calls Tryd.prog 46 #[.slice A n c] w (CodesP l w) := by
  have hfc := fault_code A c n l w h hn
  by_cases hft : 0 ≤ U.fault l
  · have HF := Lib.hid hft
    clear hn hb
    go_enter Tryd.func46, Tryd.ntmps46
    go_wp2_with fail
    refine hfc.mono ?_
    rintro e w1 ⟨rfl, hu1⟩
    go_wp2_with fail
    go_ret2
    exact ⟨hu1, .inr ⟨HF.out, rfl⟩⟩
  · obtain ⟨cs, hcs, rfl⟩ := U.right_of (l := l) (by omega)
    have hfl : U.fault (U.encs cs) < 0 := by omega
    have hle := U.encs_len_le cs hcs
    have hcl : cs.length ≤ n := by omega
    have hc45 := hb cs hcs rfl
    have Hcs := Lib.hid hcs
    have Hn := Lib.hid hn
    have H := Lib.hid h
    clear hft hcs hn h hle hb
    go_enter Tryd.func46, Tryd.ntmps46
    go_wp2_with fail
    refine hfc.mono ?_
    rintro e w1 ⟨rfl, hu1⟩
    have hstr := (H.out.up hu1).str Hn.out
    clear hfc
    generalize hs : (⟨(U.encs cs).toArray⟩ : ByteArray) = s at *
    have HS := Lib.hid hs
    have hsz : s.size = n := by rw [← hs, ba_size]; show (U.encs cs).length = n; exact Hn.out.symm
    have HZ := Lib.hid hsz
    clear hs hsz
    go_wp2
    go_loopw [4] (fun v wr => ∃ k : Nat, k ≤ cs.length ∧ Up w wr ∧ wr.heap[w1.heap.size]? = some (.stringIter s (U.encs (cs.take k)).length) ∧ wr.ownsRow (w1.heap.size + 1) 27 1 v k (us (cs.take k))) (fun _ wr => n - wr.iterPos w1.heap.size)
    case atStart => exact ⟨0, by omega, hu1.trans ((Up.refl w1).alloc _), World.iter_heap w1 s 0, World.ownsRow_nil _ _ _ 1⟩
    case round =>
      obtain ⟨k, hk, hu, hit, hown⟩ := hrel
      obtain ⟨B, d, rfl, hrv⟩ := own_rd hown
      have HO := Lib.hid hown
      have HI := Lib.hid hit
      have hB : w1.heap.size < wr.heap.size := (Array.getElem?_eq_some_iff.1 hit).1
      have hws : w.heap.size ≤ w1.heap.size := hu1.size
      clear hown hrv hit
      by_cases hlt : k < cs.length
      · have hp : (U.encs (cs.take k)).length < s.size := by rw [HZ.out, Hn.out]; exact U.encs_lt Hcs.out hlt
        have hdec : Utf8.decode s (U.encs (cs.take k)).length = (cs[k], U.wid cs[k]) := by rw [← HS.out]; exact U.decode_encs Hcs.out hlt
        have hnx : ∀ ty, (Instr.next (.pointer (some ⟨w1.heap.size, 0, none⟩)) true ty).run Tryd.prog wr = .ok (.tuple #[.bool true, .int .i64 (U.encs (cs.take k)).length, .int .i32 cs[k]]) (wr.iterAt w1.heap.size s ((U.encs (cs.take k)).length + U.wid cs[k])) := fun ty => by
          have := Lib.run_next_any_at (P := Tryd.prog) wr w1.heap.size s _ ty HI.out hp
          rw [hdec] at this
          exact this
        have hcp : U.isCp cs[k] := Hcs.out _ (List.getElem_mem hlt)
        have hr := hcp.1
        have S1 := Lib.hid (us_snoc hlt)
        have S2 := Lib.hid (show (U.encs (cs.take (k + 1))).length = (U.encs (cs.take k)).length + U.wid cs[k] by rw [U.encs_snoc hlt, List.length_append, U.enc_len hcp])
        have hwp := U.wid_pos.2 hcp
        have HP := Lib.hid hp
        clear hp hdec hcp
        generalize cs[k] = x at *
        generalize hP2 : (U.encs (cs.take k)).length + U.wid x = p2 at *
        have HP2 := Lib.hid hP2
        clear hP2
        have hu2 : Up w (wr.iterAt w1.heap.size s p2) := iterAt_up hu hws s p2
        have hz2 := iterAt_size wr w1.heap.size s p2
        have hown2 : (wr.iterAt w1.heap.size s p2).ownsRow (w1.heap.size + 1) 27 1 (.slice B k d) k (us (cs.take k)) := ownsRow_iterAt HO.out (by omega) s p2
        obtain ⟨v', w3, hap, hown3, hg⟩ := elU.pushOne (wr.iterAt w1.heap.size s p2) 22 hown2 (.int .u32 (x : Int)) rfl (by omega) (by omega) (by omega)
        have hu3 : Up w w3 := (hu2.alloc _).grown hg (fun g hg => by have := (hown2.lt g hg).1; omega)
        have hit3 : w3.heap[w1.heap.size]? = some (.stringIter s p2) := by
          rw [hg.block _ (by simp; omega) (fun e => by have := (hown2.lt _ e.symm).1; omega), Below.heap_alloc _ _ _ (by omega)]
          exact iterAt_same _ _ _ _ hB
        have HA := Lib.hid hap
        have HO3 := Lib.hid hown3
        have HI3 := Lib.hid hit3
        have HZ2 := Lib.hid hz2
        clear hap hown3 hg hown2 hit3 hz2
        go_wp2_with (at_builtin; refine wpList_app rfl _ _ _ rfl rfl rfl HA.out ?_)
        go_roundw
        case rel =>
          refine ⟨k + 1, by omega, hu3, ?_, ?_⟩
          · rw [S2.out]; exact HI3.out
          · rw [S1.out]; exact HO3.out
        case measure =>
          rw [iterPos_of HI3.out, iterPos_of HI.out]
          have := HP2.out
          have h1 := HP.out
          rw [HZ.out] at h1
          omega
      · have hkn : k = cs.length := by omega
        have hend : ∀ ty, (Instr.next (.pointer (some ⟨w1.heap.size, 0, none⟩)) true ty).run Tryd.prog wr = .ok (.tuple #[.bool false]) wr := fun ty =>
          Lib.run_next_end_at (P := Tryd.prog) wr w1.heap.size s _ ty HI.out (by rw [HZ.out, Hn.out, hkn, List.take_of_length_le (Nat.le_refl _)]; omega)
        have HK := Lib.hid hkn
        clear hkn
        go_wp2_with fail
        go_ret2
        have e : cs.take k = cs := List.take_of_length_le (by rw [HK.out]; exact Nat.le_refl _)
        have h1 := HO.out
        rw [e] at h1
        obtain ⟨B', d', hv, hrd⟩ := own_rd h1
        refine ⟨hu, .inl ⟨cs, B, d, Hcs.out, rfl, ret_two (by rw [HK.out]; rfl) rfl, ?_⟩⟩
        injection hv with e1 e2 e3
        subst e1 e3
        exact hrd

theorem codes_code (A : Option Addr) (c n : Nat) (l : List UInt8) (w : World) (h : Rd w A c (bs l)) (hn : n = l.length) (hb : n ≤ 35184372088832) :
    Calls Tryd.prog 46 #[.slice A n c] w (CodesP l w) :=
  codes_code_of A c n l w h hn fun cs h1 h2 => by
    have := U.encs_len_le cs h1
    rw [← h2] at this
    omega

set_option maxRecDepth 100000 in
set_option maxHeartbeats 800000 in
theorem codes_ref (A : Option Addr) (c n : Nat) (l : List UInt8) (w : World) (h : Rd w A c (bs l)) (hn : n = l.length) (hb : n ≤ 35184372088832) :
    Calls Tryd.prog 48 #[.slice A n c] w (CodesP l w) := by
  obtain ⟨cs, r, hcs, hl, hr⟩ := U.split l
  have hfl := U.fault_at hcs hr
  rw [← hl] at hfl
  have hle := U.encs_len_le cs hcs
  have hln : (U.encs cs).length + r.length = n := by rw [hn, hl, List.length_append]
  have hmx := h.max
  unfold maxLen at hmx
  have hcl : cs.length ≤ n := by omega
  have Hcs := Lib.hid hcs
  have Hn := Lib.hid hn
  have Hl := Lib.hid hl
  have Hr := Lib.hid hr
  have HF := Lib.hid hfl
  have HLN := Lib.hid hln
  have hfit : n ≤ c := by have := h.fit; rw [bs_len] at this; omega
  have hcm : c ≤ 9223372036854775807 := by omega
  have H := Lib.hid h
  clear hcs hn hl hr hfl hle hln h hmx
  go_enter Tryd.func48, Tryd.ntmps48
  go_wp2
  go_loopw [0, 4] (fun b v wr => ∃ (k m d : Nat) (B : Option Addr), k ≤ cs.length ∧ b = .slice B m d ∧ Hid (m = (U.encs (cs.drop k) ++ r).length) ∧ m ≤ d ∧ d ≤ c ∧ Up w wr ∧ Hid (Rd w B d (bs (U.encs (cs.drop k) ++ r))) ∧ wr.ownsRow w.heap.size 27 1 v k (us (cs.take k))) (fun b _ _ => match b with | .slice _ m _ => m | _ => 0)
  case atStart => exact ⟨0, n, c, A, by omega, rfl, Lib.hid (by rw [List.drop_zero, ← Hl.out, Hn.out]), hfit, Nat.le_refl _, Up.refl w, Lib.hid (by rw [List.drop_zero, ← Hl.out]; exact H.out), World.ownsRow_nil _ _ _ 1⟩
  case round =>
    obtain ⟨k, m, d, B, hk, rfl, Hm, hmd, hdc, hu, HR, hown⟩ := hrel
    obtain ⟨V, vc, rfl, hrv⟩ := own_rd hown
    have HO := Lib.hid hown
    clear hown hrv
    by_cases hlt : k < cs.length
    · have hcp : U.isCp cs[k] := Hcs.out _ (List.getElem_mem hlt)
      have hdr : U.encs (cs.drop k) ++ r = U.enc cs[k] ++ (U.encs (cs.drop (k + 1)) ++ r) := by
        rw [← List.getElem_cons_drop (h := hlt), U.encs_cons, List.append_assoc]
      have S1 := Lib.hid (us_snoc hlt)
      have Hone := one_ref B d m _ wr (HR.out.up hu) Hm.out
      have hwm : U.wid cs[k] ≤ m := by rw [Hm.out, hdr, List.length_append, U.enc_len hcp]; omega
      rw [hdr, U.one_enc hcp] at Hone
      have hwp := U.wid_pos.2 hcp
      have hcpr := hcp.1
      have HD := Lib.hid hdr
      have HX := Lib.hid (U.enc_len hcp)
      clear hdr hcp
      generalize cs[k] = x at *
      have hm0 : 0 < m := by omega
      have hwd : U.wid x ≤ d := by omega
      have hx32 : x < 4294967296 := by omega
      go_wp2_with fail
      refine Hone.mono ?_
      rintro e w1 ⟨rfl, hu1⟩
      have hown1 := own_up HO.out hu1
      obtain ⟨v', w3, hap, hown3, hg⟩ := elU.pushOne w1 22 hown1 (.int .u32 (x : Int)) rfl (by omega) (by omega) (Nat.le_trans hu.size hu1.size)
      have hu4 : Up w w3 := ((hu.trans hu1).alloc _).grown hg (fun g hg => (hown1.lt g hg).1)
      have hz0 : ((U.wid x : Int) == 0) = false := beq_eq_false_iff_ne.2 (by omega)
      have HA := Lib.hid hap
      have HO3 := Lib.hid hown3
      clear hap hown3 hg hown1 Hone
      go_wp2_with (at_builtin; refine wpList_app rfl _ _ _ rfl rfl rfl HA.out ?_)
      go_roundw
      case rel =>
        have hln : (bs (U.encs (cs.drop k) ++ r)).length = m := by rw [bs_len, Hm.out]
        have hsub := HR.out.sub (lo := U.wid x) (hi := m) (m := d) hwm (by rw [hln]; exact Nat.le_refl _) hmd (Nat.le_refl _)
        have hdrop : (U.encs (cs.drop k) ++ r).drop (U.wid x) = U.encs (cs.drop (k + 1)) ++ r := by rw [HD.out, ← HX.out, List.drop_left]
        have hlen2 : m - U.wid x = (U.encs (cs.drop (k + 1)) ++ r).length := by rw [Hm.out, HD.out, List.length_append, HX.out]; omega
        rw [bs_drop, bs_take, hdrop, List.take_of_length_le (by rw [hlen2]; exact Nat.le_refl _)] at hsub
        exact ⟨k + 1, m - U.wid x, d - U.wid x, _, by omega, rfl, Lib.hid hlen2, by omega, by omega, hu4, Lib.hid hsub, by rw [S1.out]; exact HO3.out⟩
      case measure => simp; omega
    · have hkn : k = cs.length := by omega
      have hb2 : U.encs (cs.drop k) ++ r = r := by rw [hkn, List.drop_length]; rfl
      have HK := Lib.hid hkn
      have Hb2 := Lib.hid hb2
      clear hkn hb2
      by_cases hr0 : r = []
      · have hm0 : m = 0 := by rw [Hm.out, Hb2.out, hr0]; rfl
        have HR0 := Lib.hid hr0
        clear hr0
        subst hm0
        go_wp2_with fail
        go_ret2
        have e : cs.take k = cs := List.take_of_length_le (by rw [HK.out]; exact Nat.le_refl _)
        have h1 := HO.out
        rw [e] at h1
        obtain ⟨B', d', hv, hrd⟩ := own_rd h1
        refine ⟨hu, .inl ⟨cs, V, vc, Hcs.out, by rw [Hl.out, HR0.out, List.append_nil], ret_two (by rw [HK.out]; rfl) rfl, ?_⟩⟩
        injection hv with e1 e2 e3
        subst e1 e3
        exact hrd
      · have hm0 : 0 < m := by rw [Hm.out, Hb2.out]; exact List.length_pos_iff.2 hr0
        have Hone := one_ref B d m _ wr (HR.out.up hu) Hm.out
        rw [Hb2.out, U.one_zero Hr.out] at Hone
        have HF2 := Lib.hid (show 0 ≤ U.fault l by rw [HF.out, if_neg hr0]; omega)
        clear hr0
        go_wp2_with fail
        refine Hone.mono ?_
        rintro e w1 ⟨rfl, hu1⟩
        go_wp2_with fail
        go_ret2
        exact ⟨hu.trans hu1, .inr ⟨HF2.out, rfl⟩⟩

end Go.Proofs.YtdhnjfkpehigiaaDoor
