/- goOver, Feed: pieces. -/
import Derived.Test.YtdkegfookbgicaaTk
namespace Go.Proofs.Ytdkegfookbgicaa
open Go.RowKit

set_option maxRecDepth 100000 in
theorem over_code {w : World} {g k : Nat} {s : U.St} (h : Sc w g k s) (hp : s.pend.length ≤ 3) (h0 : 0 ≤ s.seen) (A : Option Addr) (c n : Nat) (l : List UInt8) (hr : Rd w A c (bs l)) (hn : n = l.length) (h1 : s.seen + n ≤ 1099511627776)
    (hne : 0 < c → ∀ a, A = some a → a.block ≠ g ∧ a.block ≠ k) :
    Calls Try.prog 28 #[.slice A n c, .func (.func 29) #[.pointer (some ⟨g, 0, none⟩)] #[]] w (TakeP w g k (s.go l)) := by
  have hf := hr.fit
  have hmx := hr.max
  rw [bs_len] at hf
  unfold maxLen at hmx
  have hfn : n ≤ c := by omega
  have hmn : c ≤ 9223372036854775807 := by omega
  have Hn := Lib.hid hn; clear hn
  have Hf := Lib.hid hf; clear hf hmx
  go_enter Try.func28, Try.ntmps28
  go_wp2
  go_loopw [8] (fun i wr => ∃ p : Nat, p ≤ n ∧ i = .int .i64 p ∧ ∃ k', Sc wr g k' (s.go (l.take p)) ∧ (k' = k ∨ w.heap.size ≤ k') ∧ Fr g k w wr) (fun i _ => n - (intOf i).toNat)
  case atStart => exact ⟨0, by omega, rfl, k, h, .inl rfl, Fr.refl _ _ _⟩
  case round =>
    obtain ⟨p, hpn, rfl, k', hsc, hk, hfr⟩ := hrel
    by_cases hlt : p < n
    · have hpl : p < l.length := by have := Hn.out; omega
      have hrw := hr.fr hfr hne
      obtain ⟨a, rfl, hb⟩ := hrw.ad (by omega)
      have hcell : wr.cell? (a.add p) = some (.int .u8 (l[p].toNat : Int)) := hrw.cell a rfl p _ (bs_get l p hpl)
      have hcall := take_code hsc (U.St.go_pend hp _) (by rw [U.St.go_seen]; omega) (by rw [U.St.go_seen, List.length_take]; omega) l[p]
      rw [← U.St.go_take s l p hpl] at hcall
      generalize l[p] = x at *
      go_wp2_with fail
      refine hcall.mono ?_
      rintro e w1 ⟨rfl, k1, hsc1, hk1, hf1⟩
      have hs1 := hfr.size
      have hf2 := hfr.trans hf1 (.inl rfl) (by omega)
      clear hcall
      go_wp2_with fail
      go_roundw
      case rel => exact ⟨p + 1, by omega, by go_num, k1, hsc1, by omega, hf2⟩
      case measure => simp [intOf]; omega
    · have hpn2 : p = n := by omega
      subst hpn2
      go_wp2
      go_end0
      refine ⟨rfl, k', ?_, hk, hfr⟩
      rwa [List.take_of_length_le (by rw [← Hn.out]; exact Nat.le_refl _)] at hsc

set_option maxRecDepth 100000 in
theorem feed_ok {w : World} {g k : Nat} {s : U.St} (h : Sc w g k s) (hp : s.pend.length ≤ 3) (h0 : 0 ≤ s.seen) (A : Option Addr) (c n : Nat) (l : List UInt8) (hr : Rd w A c (bs l)) (hn : n = l.length) (h1 : s.seen + n ≤ 1099511627776)
    (hne : 0 < c → ∀ a, A = some a → a.block ≠ g ∧ a.block ≠ k) :
    Calls Try.prog 14 #[.pointer (some ⟨g, 0, none⟩), .slice A n c] w fun e w' => e = .returned (.int .i64 0) ∧ ∃ k', Sc w' g k' (s.go l) ∧ (k' = k ∨ w.heap.size ≤ k') ∧ Fr g k w w' := by
  have hov := over_code h hp h0 A c n l hr hn h1 hne
  have hmf : ∀ (fn : Fn) (first cap : Array Value) (w : World), (Instr.makeFunc fn first cap).run Try.prog w = .ok (.func fn first cap) w := fun _ _ _ _ => rfl
  obtain ⟨A', c', _, ho, _, _⟩ := h.pend
  have c0 : w.cell? ⟨g, 0, none⟩ = some (.int .i64 s.seen) := obj_cell ho 0
  have hf := hr.fit
  have hmx := hr.max
  rw [bs_len] at hf
  unfold maxLen at hmx
  have hmn : n ≤ 9223372036854775807 := by omega
  obtain ⟨seen, hseen⟩ : ∃ x, s.seen = x := ⟨_, rfl⟩
  rw [hseen] at h0 h1 c0
  clear hf hmx ho hn hr h hp hseen
  go_enter Try.func14, Try.ntmps14
  go_wp2_with fail
  refine hov.mono ?_
  rintro e w1 ⟨rfl, hx⟩
  clear hov
  go_wp2_with fail
  go_ret
  exact ⟨rfl, hx⟩

set_option maxRecDepth 100000 in
theorem feed_range {w : World} {g k : Nat} {s : U.St} (h : Sc w g k s) (h0 : 0 ≤ s.seen) (h2 : s.seen ≤ 1099511627776) (A : Option Addr) (c n : Nat) (hmn : n ≤ 9223372036854775807) (h1 : 1099511627776 < s.seen + n) :
    Calls Try.prog 14 #[.pointer (some ⟨g, 0, none⟩), .slice A n c] w fun e w' => e = .returned (.int .i64 13) ∧ Up w w' := by
  obtain ⟨A', c', _, ho, _, _⟩ := h.pend
  have c0 : w.cell? ⟨g, 0, none⟩ = some (.int .i64 s.seen) := obj_cell ho 0
  obtain ⟨seen, hseen⟩ : ∃ x, s.seen = x := ⟨_, rfl⟩
  rw [hseen] at h0 h1 h2 c0
  clear ho h hseen
  go_enter Try.func14, Try.ntmps14
  go_wp2
  go_ret
  exact ⟨rfl, Up.refl w⟩

end Go.Proofs.Ytdkegfookbgicaa
