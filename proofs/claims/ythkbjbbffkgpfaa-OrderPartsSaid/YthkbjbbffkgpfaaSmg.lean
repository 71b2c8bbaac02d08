/- The document's Same: whether two lists are one. -/
import Derived.Test.YthkbjbbffkgpfaaOwn
import Derived.Deep.QuietTactic
import Derived.BigQuiet
namespace Go.Proofs.Ythkbjbbffkgpfaa
open Go.RowKit

theorem take_eq_of (l m : List Nat) (k : Nat) (h : l.take k = m.take k) (hl : k < l.length) (hm : k < m.length) : (l = m → l[k] = m[k]) ∧ (l[k] = m[k] → l.take (k + 1) = m.take (k + 1)) := by
  refine ⟨fun e => by subst e; rfl, fun e => ?_⟩
  rw [List.take_succ_eq_append_getElem hl, List.take_succ_eq_append_getElem hm, h, e]

set_option maxRecDepth 100000 in
set_option maxHeartbeats 400000 in
theorem same_gen (A B : Option Addr) (c d n m : Nat) (l k : List Nat) (w : World) (h : Rd w A c (us l)) (h2 : Rd w B d (us k)) (hn : n = l.length) (hm : m = k.length) :
    Calls Try.prog 10 #[.slice A n c, .slice B m d] w fun e w' => e = .returned (.bool (decide (l = k))) ∧ Up w w' := by
  have hf := h.fit
  have hf2 := h2.fit
  have hmx := h.max
  have hmx2 := h2.max
  rw [us_len] at hf hf2
  unfold maxLen at hmx hmx2
  have hfn : n ≤ c := by omega
  have hfm : m ≤ d := by omega
  have hcm : c ≤ 9223372036854775807 := by omega
  have hdm : d ≤ 9223372036854775807 := by omega
  obtain ⟨r, hr⟩ : ∃ r, decide (l = k) = r := ⟨_, rfl⟩
  rw [hr]
  have Hr := Lib.hid hr
  clear hr
  by_cases hnm : n = m
  · subst hnm
    have Hn := Lib.hid hn
    have Hm := Lib.hid hm
    have H := Lib.hid h
    have H2 := Lib.hid h2
    have HT := Lib.hid (take_eq_of l k)
    clear hf hf2 hmx hmx2 hn hm h h2
    go_enter Try.func10, Try.ntmps10
    go_wp2
    go_loopw [5] (fun i wr => ∃ j : Nat, j ≤ n ∧ i = .int .i64 j ∧ Hid (l.take j = k.take j) ∧ Up w wr) (fun i _ => n - (intOf i).toNat)
    case atStart => exact ⟨0, by omega, rfl, Lib.hid (by simp), Up.refl w⟩
    case round =>
      obtain ⟨j, hj, rfl, hq, hu⟩ := hrel
      by_cases hlt : j < n
      · have hkl : j < l.length := by rw [← Hn.out]; exact hlt
        have hkk : j < k.length := by rw [← Hm.out]; exact hlt
        obtain ⟨a, rfl, _⟩ := H.out.ad (by omega)
        obtain ⟨b, rfl, _⟩ := H2.out.ad (by omega)
        have hcell : wr.cell? (a.add j) = some (.int .u32 (l[j] : Int)) := (H.out.up hu).cell a rfl j _ (us_get l j hkl)
        have hcell2 : wr.cell? (b.add j) = some (.int .u32 (k[j] : Int)) := (H2.out.up hu).cell b rfl j _ (us_get k j hkk)
        have hk0 : (0 : Int) ≤ (j : Int) := by omega
        have hkn : (j : Int) < (n : Int) := by omega
        have HS := Lib.hid (HT.out j hq.out hkl hkk)
        clear HT
        generalize l[j] = x at *
        generalize k[j] = y at *
        by_cases hxy : x = y
        · subst hxy
          go_wp2_with fail
          go_quiet (fail)
          go_wp2_with fail
          go_roundw
          case rel => exact ⟨j + 1, by omega, by go_num, Lib.hid (HS.out.2 (by trivial)), hu.drewN _⟩
          case measure => simp [intOf]; omega
        · have hne : ((x : Int) != (y : Int)) = true := by simp; omega
          have HX := Lib.hid hxy
          clear hxy
          go_wp2_with fail
          go_quiet (fail)
          go_wp2_with fail
          go_ret
          refine ⟨?_, hu.drewN _⟩
          have : r = false := by rw [← Hr.out]; exact decide_eq_false fun e => HX.out (HS.out.1 e)
          rw [this]; rfl
      · have e : l = k := by
          have := hq.out
          rwa [List.take_of_length_le (by rw [← Hn.out]; omega), List.take_of_length_le (by rw [← Hm.out]; omega)] at this
        have hrt : r = true := by rw [← Hr.out]; exact decide_eq_true e
        subst hrt
        clear e
        go_wp2_with fail
        go_ret
        exact ⟨rfl, hu⟩
  · have hne : ((n : Int) != (m : Int)) = true := by simp; omega
    have hrf : r = false := by rw [← Hr.out]; exact decide_eq_false fun e => hnm (by rw [hn, hm, e])
    subst hrf
    clear hf hf2 hmx hmx2 hn hm h h2 hnm
    go_enter Try.func10, Try.ntmps10
    go_wp2_with fail
    go_ret
    exact ⟨rfl, Up.refl w⟩

end Go.Proofs.Ythkbjbbffkgpfaa
