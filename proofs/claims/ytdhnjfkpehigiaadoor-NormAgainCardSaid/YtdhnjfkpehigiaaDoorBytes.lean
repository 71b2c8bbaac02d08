/- code.Bytes and the document's Bytes: the bytes of numbers, one behind the other. -/
import Derived.Test.YtdhnjfkpehigiaaDoorPut
import Derived.Test.YtdhnjfkpehigiaaDoorAwake
import Derived.Test.YtdhnjfkpehigiaaDoorRput
import Derived.Test.YtdhnjfkpehigiaaDoorBas
import Derived.Test.YtdhnjfkpehigiaaDoorUtg
namespace Go.Proofs.YtdhnjfkpehigiaaDoor
open Go.RowKit

theorem Up.grownBy {w w' : World} (h : Up w w') : w.grownBy w' none := ⟨h.os, h.tape, h.output, h.size, fun k hk _ => h.block k hk⟩
theorem Up.grown {w wr w' : World} {row : Option Nat} (h : Up w wr) (hg : wr.grownBy w' row) (hr : ∀ k, row = some k → w.heap.size ≤ k) : Up w w' := Below.grown h hg h.size hr

/-- What both leave. -/
def BytesP (l : List Nat) (w : World) (e : Ending) (w' : World) : Prop :=
  Up w w' ∧ ((U.Cps l ∧ ∃ A c, e = .returned (.tuple #[.slice A (U.encs l).length c, .int .i64 0]) ∧ w'.ownsRow w.heap.size 5 1 (.slice A (U.encs l).length c) (U.encs l).length (bs (U.encs l))) ∨
    (¬ U.Cps l ∧ e = .returned (.tuple #[.slice none 0 0, .int .i64 2])))

theorem U.take_snoc {l : List Nat} {k : Nat} (h : k < l.length) : l.take (k + 1) = l.take k ++ [l[k]] := by
  rw [List.take_succ_eq_append_getElem h]
theorem U.encs_snoc {l : List Nat} {k : Nat} (h : k < l.length) : U.encs (l.take (k + 1)) = U.encs (l.take k) ++ U.enc l[k] := by
  rw [U.take_snoc h, U.encs_append]; simp [U.encs]
theorem U.Cps_snoc {l : List Nat} {k : Nat} (h : k < l.length) (h1 : U.Cps (l.take k)) (h2 : U.isCp l[k]) : U.Cps (l.take (k + 1)) := by
  rw [U.take_snoc h]
  exact h1.append fun x hx => by rw [List.mem_singleton.1 hx]; exact h2
theorem U.not_Cps {l : List Nat} {k : Nat} (h : k < l.length) (h2 : ¬ U.isCp l[k]) : ¬ U.Cps l := fun hh => h2 (hh _ (List.getElem_mem h))

set_option maxRecDepth 100000 in
set_option maxHeartbeats 400000 in
theorem bytes_code (A : Option Addr) (c n : Nat) (l : List Nat) (w : World) (h : Rd w A c (us l)) (hn : n = l.length) (hb : n * 4 ≤ 140737488351232) :
    Calls Tryd.prog 47 #[.slice A n c] w (BytesP l w) := by
  have hf := h.fit
  rw [us_len] at hf
  have hfn : n ≤ c := by omega
  have hnm : n ≤ 35184372087808 := by omega
  have hmx := h.max
  unfold maxLen at hmx
  have hcm : c ≤ 9223372036854775807 := by omega
  have Hn := Lib.hid hn
  have H := Lib.hid h
  clear hf hn hb h hmx
  go_enter Tryd.func47, Tryd.ntmps47
  go_wp2
  go_loopw [4, 11] (fun v i wr => ∃ k : Nat, k ≤ n ∧ i = .int .i64 k ∧ Up w wr ∧ Hid (U.Cps (l.take k)) ∧ wr.ownsRow w.heap.size 5 1 v (U.encs (l.take k)).length (bs (U.encs (l.take k)))) (fun _ i _ => n - (intOf i).toNat)
  case atStart => exact ⟨0, by omega, rfl, Up.refl w, Lib.hid (fun c hc => by cases hc), World.ownsRow_nil w _ _ 1⟩
  case round =>
    obtain ⟨k, hk, rfl, hu, hcp, hown⟩ := hrel
    obtain ⟨B, d, rfl, hrv⟩ := own_rd hown
    have HO := Lib.hid hown
    clear hown hrv
    by_cases hlt : k < n
    · have hkl : k < l.length := by rw [← Hn.out]; exact hlt
      obtain ⟨a, rfl, _⟩ := H.out.ad (by omega)
      have hcell : wr.cell? (a.add k) = some (.int .u32 (l[k] : Int)) := (H.out.up hu).cell a rfl k _ (us_get l k hkl)
      have S1 := Lib.hid (U.encs_snoc hkl)
      have S2 := Lib.hid (fun h1 h2 => U.Cps_snoc hkl h1 h2)
      have S3 := Lib.hid (fun h2 => U.not_Cps hkl h2)
      have HL := Lib.hid (show (U.encs (l.take k)).length ≤ 4 * k ∧ k ≤ l.length by
        have h1 := U.encs_len_4 (l.take k) hcp.out
        rw [List.length_take] at h1
        omega)
      generalize l[k] = x at *
      by_cases hx : U.isCp x
      · have hpc := put_code x hx wr
        have HX := Lib.hid (U.enc_len hx)
        have Hx := Lib.hid hx
        clear hx
        go_wp2_with fail
        refine hpc.mono ?_
        rintro e w1 ⟨A1, rfl, hrd1, hu1⟩
        obtain ⟨v', w2, hap, hown2, hg, _⟩ := elB.app (m := U.wid x) w1 28 (own_up HO.out hu1) hrd1 (by rw [bs_len, HX.out]) (one_bs _) (by have := HL.out; have := U.wid_le x; omega) (by omega) (Nat.le_trans hu.size hu1.size)
        have hu3 : Up w w2 := (hu.trans hu1).grown hg (fun g hg => ((own_up HO.out hu1).lt g hg).1)
        have HA := Lib.hid hap
        have HO2 := Lib.hid hown2
        clear hap hown2 hg hpc hrd1
        go_wp2_with (at_builtin; refine wpList_app rfl _ _ _ rfl rfl rfl HA.out ?_)
        go_roundw
        case rel =>
          refine ⟨k + 1, by omega, by go_num, hu3, Lib.hid (S2.out hcp.out Hx.out), ?_⟩
          rw [S1.out, List.length_append, HX.out, bs_append]
          exact HO2.out
        case measure => simp [intOf]; omega
      · have hz : U.wid x = 0 := Nat.eq_zero_of_not_pos (fun h' => hx (U.wid_pos.1 h'))
        have hpc := put_no x wr (by rw [widthI_wid, hz]; rfl)
        have HN := Lib.hid (S3.out hx)
        clear hx hz
        go_wp2_with fail
        refine hpc.mono ?_
        rintro e w1 ⟨rfl, rfl⟩
        go_wp2_with fail
        go_ret2
        exact ⟨hu, .inr ⟨HN.out, rfl⟩⟩
    · have hkn : k = n := by omega
      have HK := Lib.hid hkn
      clear hkn
      go_wp2_with fail
      go_ret2
      have e : l.take k = l := List.take_of_length_le (by rw [HK.out, Hn.out]; exact Nat.le_refl _)
      have h1 := HO.out
      have h2 := hcp.out
      rw [e] at h1 h2
      exact ⟨hu, .inl ⟨h2, B, d, ret_two (by rw [e]; rfl) rfl, h1⟩⟩

theorem isB_of {c : Nat} (hc : U.isCp c) : isB (c : Int) = true := by have h1 := hc.1; have h2 := hc.2; unfold isB; simp; omega
theorem isB_not {c : Nat} (hc : ¬ U.isCp c) : isB (c : Int) = false := by unfold U.isCp at hc; unfold isB; simp; omega

set_option maxRecDepth 100000 in
set_option maxHeartbeats 400000 in
theorem bytes_ref (A : Option Addr) (c n : Nat) (l : List Nat) (w : World) (h : Rd w A c (us l)) (hn : n = l.length) (hb : n * 4 ≤ 140737488351232) :
    Calls Tryd.prog 49 #[.slice A n c] w (BytesP l w) := by
  have hf := h.fit
  rw [us_len] at hf
  have hfn : n ≤ c := by omega
  have hnm : n ≤ 35184372087808 := by omega
  have hmx := h.max
  unfold maxLen at hmx
  have hcm : c ≤ 9223372036854775807 := by omega
  have Hn := Lib.hid hn
  have H := Lib.hid h
  clear hf hn hb h hmx
  go_enter Tryd.func49, Tryd.ntmps49
  go_wp2
  go_loopw [4, 5] (fun v i wr => ∃ k : Nat, k ≤ n ∧ i = .int .i64 k ∧ Up w wr ∧ Hid (U.Cps (l.take k)) ∧ wr.ownsRow w.heap.size 5 1 v (U.encs (l.take k)).length (bs (U.encs (l.take k)))) (fun _ i _ => n - (intOf i).toNat)
  case atStart => exact ⟨0, by omega, rfl, Up.refl w, Lib.hid (fun c hc => by cases hc), World.ownsRow_nil w _ _ 1⟩
  case round =>
    obtain ⟨k, hk, rfl, hu, hcp, hown⟩ := hrel
    obtain ⟨B, d, rfl, hrv⟩ := own_rd hown
    have HO := Lib.hid hown
    clear hown hrv
    by_cases hlt : k < n
    · have hkl : k < l.length := by rw [← Hn.out]; exact hlt
      obtain ⟨a, rfl, _⟩ := H.out.ad (by omega)
      have hcell : wr.cell? (a.add k) = some (.int .u32 (l[k] : Int)) := (H.out.up hu).cell a rfl k _ (us_get l k hkl)
      have S1 := Lib.hid (U.encs_snoc hkl)
      have S2 := Lib.hid (fun h1 h2 => U.Cps_snoc hkl h1 h2)
      have S3 := Lib.hid (fun h2 => U.not_Cps hkl h2)
      have HL := Lib.hid (show (U.encs (l.take k)).length ≤ 4 * k ∧ k ≤ l.length by
        have h1 := U.encs_len_4 (l.take k) hcp.out
        rw [List.length_take] at h1
        omega)
      generalize l[k] = x at *
      by_cases hx : U.isCp x
      · have hB := isB_of hx
        have HX := Lib.hid (U.enc_len hx)
        have Hx := Lib.hid hx
        clear hx
        go_wp2_with fail
        refine (is_ref _ _).mono ?_
        rintro e w1 ⟨rfl, rfl⟩
        go_wp2_with fail
        refine (rput_ref x Hx.out wr).mono ?_
        rintro e w1 ⟨A1, rfl, hrd1, hu1⟩
        obtain ⟨v', w2, hap, hown2, hg, _⟩ := elB.app (m := U.wid x) w1 28 (own_up HO.out hu1) hrd1 (by rw [bs_len, HX.out]) (one_bs _) (by have := HL.out; have := U.wid_le x; omega) (by omega) (Nat.le_trans hu.size hu1.size)
        have hu3 : Up w w2 := (hu.trans hu1).grown hg (fun g hg => ((own_up HO.out hu1).lt g hg).1)
        have HA := Lib.hid hap
        have HO2 := Lib.hid hown2
        clear hap hown2 hg hrd1
        go_wp2_with (at_builtin; refine wpList_app rfl _ _ _ rfl rfl rfl HA.out ?_)
        go_roundw
        case rel =>
          refine ⟨k + 1, by omega, by go_num, hu3, Lib.hid (S2.out hcp.out Hx.out), ?_⟩
          rw [S1.out, List.length_append, HX.out, bs_append]
          exact HO2.out
        case measure => simp [intOf]; omega
      · have hB := isB_not hx
        have HN := Lib.hid (S3.out hx)
        clear hx
        go_wp2_with fail
        refine (is_ref _ _).mono ?_
        rintro e w1 ⟨rfl, rfl⟩
        go_wp2_with fail
        go_ret2
        exact ⟨hu, .inr ⟨HN.out, rfl⟩⟩
    · have hkn : k = n := by omega
      have HK := Lib.hid hkn
      clear hkn
      go_wp2_with fail
      go_ret2
      have e : l.take k = l := List.take_of_length_le (by rw [HK.out, Hn.out]; exact Nat.le_refl _)
      have h1 := HO.out
      have h2 := hcp.out
      rw [e] at h1 h2
      exact ⟨hu, .inl ⟨h2, B, d, ret_two (by rw [e]; rfl) rfl, h1⟩⟩

end Go.Proofs.YtdhnjfkpehigiaaDoor
