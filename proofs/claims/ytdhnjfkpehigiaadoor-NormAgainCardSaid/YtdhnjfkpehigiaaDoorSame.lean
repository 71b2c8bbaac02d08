/- The document's Same, of two lists that read the same. -/
import Derived.Test.YtdhnjfkpehigiaaDoorAwake
import Derived.Test.YtdhnjfkpehigiaaDoorBas
namespace Go.Proofs.YtdhnjfkpehigiaaDoor
open Go.RowKit

set_option maxRecDepth 100000 in
set_option maxHeartbeats 400000 in
theorem same_ref (A B : Option Addr) (c d n : Nat) (l : List Nat) (w : World) (h : Rd w A c (us l)) (h2 : Rd w B d (us l)) (hn : n = l.length) :
    Calls Tryd.prog 18 #[.slice A n c, .slice B n d] w fun e w' => e = .returned (.bool true) ∧ Up w w' := by
  have hf := h.fit
  have hf2 := h2.fit
  have hm := h.max
  rw [us_len] at hf hf2
  unfold maxLen at hm
  have hfn : n ≤ c := by omega
  have hfm : n ≤ d := by omega
  have hcm : c ≤ 9223372036854775807 := by omega
  have Hn := Lib.hid hn
  have H := Lib.hid h
  have H2 := Lib.hid h2
  clear hf hf2 hm hn h h2
  go_enter Tryd.func18, Tryd.ntmps18
  go_wp2
  go_loopw [5] (fun i wr => ∃ k : Nat, k ≤ n ∧ i = .int .i64 k ∧ Up w wr) (fun i _ => n - (intOf i).toNat)
  case atStart => exact ⟨0, by omega, rfl, Up.refl w⟩
  case round =>
    obtain ⟨k, hk, rfl, hu⟩ := hrel
    by_cases hlt : k < n
    · have hkl : k < l.length := by rw [← Hn.out]; exact hlt
      obtain ⟨a, rfl, _⟩ := H.out.ad (by omega)
      obtain ⟨b, rfl, _⟩ := H2.out.ad (by omega)
      have hcell : wr.cell? (a.add k) = some (.int .u32 (l[k] : Int)) := (H.out.up hu).cell a rfl k _ (us_get l k hkl)
      have hcell2 : wr.cell? (b.add k) = some (.int .u32 (l[k] : Int)) := (H2.out.up hu).cell b rfl k _ (us_get l k hkl)
      have hk0 : (0 : Int) ≤ (k : Int) := by omega
      have hkn : (k : Int) < (n : Int) := by omega
      generalize l[k] = x at *
      go_wp2
      go_quiet (fail)
      go_wp2
      go_roundw
      case rel => exact ⟨k + 1, by omega, by go_num, hu.drewN _⟩
      case measure => simp [intOf]; omega
    · go_wp2
      go_ret
      exact ⟨rfl, hu⟩

end Go.Proofs.YtdhnjfkpehigiaaDoor
