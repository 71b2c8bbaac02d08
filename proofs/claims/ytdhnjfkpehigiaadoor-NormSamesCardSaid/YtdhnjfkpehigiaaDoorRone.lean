/- The document's One. -/
import Derived.Test.YtdhnjfkpehigiaaDoorRnum
namespace Go.Proofs.YtdhnjfkpehigiaaDoor
open Go.RowKit

theorem U.nth_of {l : List UInt8} {x : Nat} {k : Nat} (h : l[k]? = some (UInt8.ofNat x)) (hx : x < 256) : U.nth l k = x := by
  unfold U.nth
  rw [h]
  exact U.toNat_of x hx

/-- number, of so many of l's bytes. -/
theorem number_ref (a : Addr) (c n m : Nat) (l : List UInt8) (w : World) (h : Rd w (some a) c (bs l)) (hn : n = l.length) (hm0 : 1 ≤ m) (hm4 : m ≤ 4) (hm : m ≤ n) :
    Calls Tryd.prog 98 #[.slice (some a) n c, .int .i64 m] w (NumP (fun cp => U.isCp cp ∧ U.wid cp = m ∧ l.take m = U.enc cp) w) := by
  have hf := h.fit
  have hmx := h.max
  rw [bs_len] at hf
  unfold maxLen at hmx
  have cell : ∀ k, k < l.length → w.cell? (a.add k) = some (.int .u8 (U.nth l k : Int)) := fun k hk => by
    rw [h.cell a rfl k _ (bs_get l k hk), U.nth]
    simp [List.getElem?_eq_getElem hk]
  have hc0 : w.cell? a = _ := cell 0 (by omega)
  have key : ∀ (cp k x : Nat), l.take m = U.enc cp → k < m → (U.enc cp)[k]? = some (UInt8.ofNat x) → x < 256 → U.nth l k = x := fun cp k x he hk hx hlt => by
    refine U.nth_of ?_ hlt
    rw [← hx, ← he, List.getElem?_take, if_pos hk]
  have mono : ∀ (p q : Nat → Prop), (∀ c, q c → p c) → ∀ e w', NumP p w e w' → NumP q w e w' := fun p q hpq e w' ⟨v, ok, h1, h2, h3, h4, h5⟩ => ⟨v, ok, h1, h2, h3, h4, fun c hc => h5 c (hpq c hc)⟩
  obtain rfl | rfl | rfl | rfl : m = 1 ∨ m = 2 ∨ m = 3 ∨ m = 4 := by omega
  · refine (number_1 a c n w (by omega) (by omega) (U.nth l 0) (U.nth_lt l 0) hc0).mono (mono _ _ fun cp ⟨h1, h2, h3⟩ => ?_)
    rw [U.wid_isCp h1] at h2
    have h128 : cp < 128 := by
      refine Decidable.byContradiction fun hh => ?_
      rw [if_neg hh] at h2
      revert h2; split
      · omega
      · split <;> omega
    exact key cp 0 cp h3 (by omega) (by unfold U.enc; rw [if_pos h128]; rfl) (by omega)
  · have hc1 : w.cell? ⟨a.block, a.off + 1, none⟩ = _ := cell 1 (by omega)
    refine (number_2 a c n w (by omega) (by omega) _ _ (U.nth_lt l 0) (U.nth_lt l 1) hc0 hc1).mono (mono _ _ fun cp ⟨h1, h2, h3⟩ => ?_)
    rw [U.wid_isCp h1] at h2
    have hr : ¬ cp < 128 ∧ cp < 2048 := by
      revert h2; split
      · omega
      · split
        · omega
        · split <;> omega
    have e : U.enc cp = [UInt8.ofNat (192 + cp / 64), UInt8.ofNat (128 + cp % 64)] := by unfold U.enc; rw [if_neg hr.1, if_pos hr.2]
    exact ⟨hr.2, key cp 0 _ h3 (by omega) (by rw [e]; rfl) (by omega), key cp 1 _ h3 (by omega) (by rw [e]; rfl) (by omega)⟩
  · have hc1 : w.cell? ⟨a.block, a.off + 1, none⟩ = _ := cell 1 (by omega)
    have hc2 : w.cell? ⟨a.block, a.off + 2, none⟩ = _ := cell 2 (by omega)
    refine (number_3 a c n w (by omega) (by omega) _ _ _ (U.nth_lt l 0) (U.nth_lt l 1) (U.nth_lt l 2) hc0 hc1 hc2).mono (mono _ _ fun cp ⟨h1, h2, h3⟩ => ?_)
    rw [U.wid_isCp h1] at h2
    have hr : ¬ cp < 128 ∧ ¬ cp < 2048 ∧ cp < 65536 := by
      revert h2; split
      · omega
      · split
        · omega
        · split <;> omega
    have e : U.enc cp = [UInt8.ofNat (224 + cp / 4096), UInt8.ofNat (128 + cp / 64 % 64), UInt8.ofNat (128 + cp % 64)] := by unfold U.enc; rw [if_neg hr.1, if_neg hr.2.1, if_pos hr.2.2]
    exact ⟨hr.2.2, key cp 0 _ h3 (by omega) (by rw [e]; rfl) (by omega), key cp 1 _ h3 (by omega) (by rw [e]; rfl) (by omega), key cp 2 _ h3 (by omega) (by rw [e]; rfl) (by omega)⟩
  · have hc1 : w.cell? ⟨a.block, a.off + 1, none⟩ = _ := cell 1 (by omega)
    have hc2 : w.cell? ⟨a.block, a.off + 2, none⟩ = _ := cell 2 (by omega)
    have hc3 : w.cell? ⟨a.block, a.off + 3, none⟩ = _ := cell 3 (by omega)
    refine (number_4 a c n w (by omega) (by omega) _ _ _ _ (U.nth_lt l 0) (U.nth_lt l 1) (U.nth_lt l 2) (U.nth_lt l 3) hc0 hc1 hc2 hc3).mono (mono _ _ fun cp ⟨h1, h2, h3⟩ => ?_)
    have hle := h1.1
    rw [U.wid_isCp h1] at h2
    have hr : ¬ cp < 128 ∧ ¬ cp < 2048 ∧ ¬ cp < 65536 := by
      revert h2; split
      · omega
      · split
        · omega
        · split <;> omega
    have e : U.enc cp = [UInt8.ofNat (240 + cp / 262144), UInt8.ofNat (128 + cp / 4096 % 64), UInt8.ofNat (128 + cp / 64 % 64), UInt8.ofNat (128 + cp % 64)] := by unfold U.enc; rw [if_neg hr.1, if_neg hr.2.1, if_neg hr.2.2]
    exact ⟨hle, key cp 0 _ h3 (by omega) (by rw [e]; rfl) (by omega), key cp 1 _ h3 (by omega) (by rw [e]; rfl) (by omega), key cp 2 _ h3 (by omega) (by rw [e]; rfl) (by omega), key cp 3 _ h3 (by omega) (by rw [e]; rfl) (by omega)⟩

end Go.Proofs.YtdhnjfkpehigiaaDoor
