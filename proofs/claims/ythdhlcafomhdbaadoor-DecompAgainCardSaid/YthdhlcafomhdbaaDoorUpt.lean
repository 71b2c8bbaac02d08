/- What the program's search tells of the tables, plain. -/
import Derived.Test.YthdhlcafomhdbaaDoorCfn
import Derived.Test.YthdhlcafomhdbaaDoorUcn
namespace Go.Proofs.YthdhlcafomhdbaaDoor
open Go.RowKit

theorem cmp3_pos (a b : Nat) : 0 < cmp3 a b ↔ b < a := by unfold cmp3; split <;> (try split) <;> omega
theorem cmp3_zero (a b : Nat) : cmp3 a b = 0 ↔ a = b := by unfold cmp3; split <;> (try split) <;> omega
theorem inR_pos (x y c : Nat) : 0 < inR x y c ↔ x ≤ c ∧ y < c := by unfold inR; split <;> (try split) <;> omega
theorem inR_zero (x y c : Nat) : inR x y c = 0 ↔ x ≤ c ∧ c ≤ y := by unfold inR; split <;> (try split) <;> omega
theorem cmp2_pos (a b x y : Nat) : 0 < cmp2 a b x y ↔ x < a ∨ (x = a ∧ y < b) := by
  unfold cmp2
  have h1 := cmp3_pos a x
  have h2 := cmp3_zero a x
  have h3 := cmp3_pos b y
  by_cases h : cmp3 a x = 0
  · rw [if_pos h, h3]
    have := h2.1 h
    omega
  · rw [if_neg h, h1]
    have := fun e => h (h2.2 e)
    omega
theorem cmp2_zero (a b x y : Nat) : cmp2 a b x y = 0 ↔ a = x ∧ b = y := by
  unfold cmp2
  have h2 := cmp3_zero a x
  have h3 := cmp3_zero b y
  by_cases h : cmp3 a x = 0
  · rw [if_pos h, h3]
    have := h2.1 h
    omega
  · rw [if_neg h]
    have := fun e => h (h2.2 e)
    omega

/-- Are the first d digits of each row hex digits? -/
def hexrows : Nat → Nat → Nat → List UInt8 → Bool
  | 0, _, _, _ => true
  | n + 1, size, d, l => (l.take d).all (fun b => Nat.blt (dig b) 16) && hexrows n size d (l.drop size)
theorem dec_hex : hexrows 2061 16 15 decS.data.toList = true := by kernel_rfl
theorem hexes_of {size d : Nat} : ∀ {N : Nat} {l : List UInt8} {i : Nat}, hexrows N size d l = true → i < N → hexes ((l.drop (i * size)).take d)
  | 0, _, _, _, h => absurd h (Nat.not_lt_zero _)
  | n + 1, l, i, hh, hi => by
    unfold hexrows at hh
    rw [Bool.and_eq_true] at hh
    match i with
    | 0 =>
      rw [Nat.zero_mul, List.drop_zero]
      intro b hb
      have := List.all_eq_true.1 hh.1 b hb
      rwa [Nat.blt_eq] at this
    | i + 1 =>
      have := hexes_of hh.2 (i := i) (by omega)
      rw [List.drop_drop] at this
      rwa [Nat.succ_mul, Nat.add_comm]
theorem hexes_fld {size d N : Nat} {l : List UInt8} {i o n : Nat} (hh : hexrows N size d l = true) (hi : i < N) (ho : o + n ≤ d) : hexes ((l.drop (i * size + o)).take n) := by
  have h := hexes_of hh hi
  intro b hb
  refine h b ?_
  rw [← List.drop_drop] at hb
  have e : ((l.drop (i * size)).drop o).take n = (((l.drop (i * size)).take d).drop o).take n := by
    rw [List.drop_take, List.take_take, Nat.min_eq_left (by omega)]
  rw [e] at hb
  exact List.mem_of_mem_drop (List.mem_of_mem_take hb)

/-- What character answers of row i. -/
theorem row_chr (s : ByteArray) {size d N : Nat} {i k : Nat} (hh : hexrows N size d s.data.toList = true) (hi : i < N) (hk : k ≤ 2) (hd : 5 * k + 5 ≤ d) (hsz : 5 * k + 5 ≤ size) (hN : N * size ≤ s.size) : Chr (rowS s size i) k (fld s.data.toList size i (5 * k) 5) := by
  have hr : (i + 1) * size ≤ s.size := Nat.le_trans (Nat.mul_le_mul_right size hi) hN
  have e := row_fld s size i (5 * k) 5 hsz
  unfold fld
  rw [← e]
  exact Chr.of hk (by rw [rowS_size s size i hr]; exact hsz) (by rw [e]; exact hexes_fld hh hi hd)

/-- Where each row of Classes begins and ends. -/
def ends : Nat → List UInt8 → List Nat
  | 0, _ => []
  | n + 1, l => 2 * num (l.take 5) :: (2 * num ((l.drop 5).take 5) + 1) :: ends n (l.drop 12)
theorem ends_get : ∀ (n : Nat) (l : List UInt8) (i : Nat), i < n → (ends n l)[2 * i]? = some (2 * key l 12 i) ∧ (ends n l)[2 * i + 1]? = some (2 * fld l 12 i 5 5 + 1)
  | 0, _, _, h => absurd h (Nat.not_lt_zero _)
  | n + 1, l, 0, _ => by simp [ends, key, fld]
  | n + 1, l, i + 1, h => by
    obtain ⟨h1, h2⟩ := ends_get n (l.drop 12) i (by omega)
    rw [ends, show 2 * (i + 1) = 2 * i + 1 + 1 by omega, List.getElem?_cons_succ, List.getElem?_cons_succ, List.getElem?_cons_succ, List.getElem?_cons_succ, h1, h2]
    unfold key fld
    rw [List.drop_drop, List.drop_drop, show (i + 1) * 12 = 12 + i * 12 by omega, show 12 + i * 12 + 5 = 12 + (i * 12 + 5) by omega]
    exact ⟨rfl, rfl⟩
theorem dec_mono (c : Nat) : ∀ i j, i ≤ j → j < 2061 → 0 < cmp3 c (key decS.data.toList 16 j) → 0 < cmp3 c (key decS.data.toList 16 i) := by
  intro i j hij hj h
  rw [cmp3_pos] at h ⊢
  exact Nat.lt_of_le_of_lt (key_le dec_rising _ _ hij hj) h
theorem dec_found {c r : Nat} {ok : Bool} (h : FindP (fun i => cmp3 c (key decS.data.toList 16 i)) 2061 r ok) :
    (ok = true ∧ r < 2061 ∧ rowOf c = r + 1) ∨ (ok = false ∧ rowOf c = 0) := by
  obtain ⟨h1, h2, h3, h4⟩ := h
  cases ok with
  | true =>
    obtain ⟨h5, h6⟩ := h4.1 rfl
    exact .inl ⟨rfl, h5, row_of_key h5 ((cmp3_zero _ _).1 h6).symm⟩
  | false =>
    refine .inr ⟨rfl, Decidable.byContradiction fun hne => ?_⟩
    obtain ⟨k, hk⟩ : ∃ k, rowOf c = k + 1 := ⟨rowOf c - 1, by omega⟩
    obtain ⟨g1, g2⟩ := row_key hk
    unfold decL at g2
    have hlt : ¬ k < r := fun hlt => by have := (cmp3_pos _ _).1 (h2 k hlt); omega
    have hkr : r < 2061 := by omega
    have g3 : ¬ 0 < cmp3 c (key decS.data.toList 16 r) := by have := h3 r (Nat.le_refl _) hkr; simp only at this; omega
    have g4 : ¬ cmp3 c (key decS.data.toList 16 r) = 0 := fun e => Bool.noConfusion (h4.2 ⟨hkr, e⟩)
    rw [cmp3_pos] at g3
    rw [cmp3_zero] at g4
    have := key_le dec_rising r k (by omega) g1
    omega

end Go.Proofs.YthdhlcafomhdbaaDoor
