/- What the program's search tells of the tables, plain. -/
import Derived.Test.YthkbjbbffkgpfaaCfn
import Derived.Test.YthkbjbbffkgpfaaUcn
namespace Go.Proofs.Ythkbjbbffkgpfaa
open Go.RowKit

theorem cmp3_pos (a b : Nat) : 0 < cmp3 a b ↔ b < a := by unfold cmp3; split <;> (try split) <;> omega
theorem cmp3_zero (a b : Nat) : cmp3 a b = 0 ↔ a = b := by unfold cmp3; split <;> (try split) <;> omega
theorem inR_pos (x y c : Nat) : 0 < inR x y c ↔ x ≤ c ∧ y < c := by unfold inR; split <;> (try split) <;> omega
theorem inR_zero (x y c : Nat) : inR x y c = 0 ↔ x ≤ c ∧ c ≤ y := by unfold inR; split <;> (try split) <;> omega
theorem cmp2_pos (a b x y : Nat) : 0 < cmp2 a b x y ↔ x < a ∨ (x = a ∧ y < b) := by
  unfold cmp2
  have h1 := cmp3_pos a x
  have h2 := cmp3_zero a x
  have h3 := cmp3_pos b y
  by_cases h : cmp3 a x = 0
  · rw [if_pos h, h3]
    have := h2.1 h
    omega
  · rw [if_neg h, h1]
    have := fun e => h (h2.2 e)
    omega
theorem cmp2_zero (a b x y : Nat) : cmp2 a b x y = 0 ↔ a = x ∧ b = y := by
  unfold cmp2
  have h2 := cmp3_zero a x
  have h3 := cmp3_zero b y
  by_cases h : cmp3 a x = 0
  · rw [if_pos h, h3]
    have := h2.1 h
    omega
  · rw [if_neg h]
    have := fun e => h (h2.2 e)
    omega

/-- Are the first d digits of each row hex digits? -/
def hexrows : Nat → Nat → Nat → List UInt8 → Bool
  | 0, _, _, _ => true
  | n + 1, size, d, l => (l.take d).all (fun b => Nat.blt (dig b) 16) && hexrows n size d (l.drop size)
theorem cls_hex : hexrows 388 12 12 clsS.data.toList = true := by kernel_rfl
theorem hexes_of {size d : Nat} : ∀ {N : Nat} {l : List UInt8} {i : Nat}, hexrows N size d l = true → i < N → hexes ((l.drop (i * size)).take d)
  | 0, _, _, _, h => absurd h (Nat.not_lt_zero _)
  | n + 1, l, i, hh, hi => by
    unfold hexrows at hh
    rw [Bool.and_eq_true] at hh
    match i with
    | 0 =>
      rw [Nat.zero_mul, List.drop_zero]
      intro b hb
      have := List.all_eq_true.1 hh.1 b hb
      rwa [Nat.blt_eq] at this
    | i + 1 =>
      have := hexes_of hh.2 (i := i) (by omega)
      rw [List.drop_drop] at this
      rwa [Nat.succ_mul, Nat.add_comm]
theorem hexes_fld {size d N : Nat} {l : List UInt8} {i o n : Nat} (hh : hexrows N size d l = true) (hi : i < N) (ho : o + n ≤ d) : hexes ((l.drop (i * size + o)).take n) := by
  have h := hexes_of hh hi
  intro b hb
  refine h b ?_
  rw [← List.drop_drop] at hb
  have e : ((l.drop (i * size)).drop o).take n = (((l.drop (i * size)).take d).drop o).take n := by
    rw [List.drop_take, List.take_take, Nat.min_eq_left (by omega)]
  rw [e] at hb
  exact List.mem_of_mem_drop (List.mem_of_mem_take hb)

/-- What character answers of row i. -/
theorem row_chr (s : ByteArray) {size d N : Nat} {i k : Nat} (hh : hexrows N size d s.data.toList = true) (hi : i < N) (hk : k ≤ 2) (hd : 5 * k + 5 ≤ d) (hsz : 5 * k + 5 ≤ size) (hN : N * size ≤ s.size) : Chr (rowS s size i) k (fld s.data.toList size i (5 * k) 5) := by
  have hr : (i + 1) * size ≤ s.size := Nat.le_trans (Nat.mul_le_mul_right size hi) hN
  have e := row_fld s size i (5 * k) 5 hsz
  unfold fld
  rw [← e]
  exact Chr.of hk (by rw [rowS_size s size i hr]; exact hsz) (by rw [e]; exact hexes_fld hh hi hd)

/-- Where each row of Classes begins and ends. -/
def ends : Nat → List UInt8 → List Nat
  | 0, _ => []
  | n + 1, l => 2 * num (l.take 5) :: (2 * num ((l.drop 5).take 5) + 1) :: ends n (l.drop 12)
theorem ends_get : ∀ (n : Nat) (l : List UInt8) (i : Nat), i < n → (ends n l)[2 * i]? = some (2 * key l 12 i) ∧ (ends n l)[2 * i + 1]? = some (2 * fld l 12 i 5 5 + 1)
  | 0, _, _, h => absurd h (Nat.not_lt_zero _)
  | n + 1, l, 0, _ => by simp [ends, key, fld]
  | n + 1, l, i + 1, h => by
    obtain ⟨h1, h2⟩ := ends_get n (l.drop 12) i (by omega)
    rw [ends, show 2 * (i + 1) = 2 * i + 1 + 1 by omega, List.getElem?_cons_succ, List.getElem?_cons_succ, List.getElem?_cons_succ, List.getElem?_cons_succ, h1, h2]
    unfold key fld
    rw [List.drop_drop, List.drop_drop, show (i + 1) * 12 = 12 + i * 12 by omega, show 12 + i * 12 + 5 = 12 + (i * 12 + 5) by omega]
    exact ⟨rfl, rfl⟩
theorem cls_ends : rising (ends 388 clsS.data.toList) = true := by kernel_rfl
theorem cls_in (i : Nat) (hi : i < 388) : key clsS.data.toList 12 i ≤ fld clsS.data.toList 12 i 5 5 := by
  obtain ⟨h1, h2⟩ := ends_get 388 clsS.data.toList i hi
  have := rising_le _ cls_ends _ _ _ _ (show 2 * i < 2 * i + 1 by omega) h1 h2
  omega
theorem cls_apart (i j : Nat) (hij : i < j) (hj : j < 388) : fld clsS.data.toList 12 i 5 5 < key clsS.data.toList 12 j := by
  obtain ⟨_, h1⟩ := ends_get 388 clsS.data.toList i (by omega)
  obtain ⟨h2, _⟩ := ends_get 388 clsS.data.toList j hj
  have := rising_le _ cls_ends _ _ _ _ (show 2 * i + 1 < 2 * j by omega) h1 h2
  omega

theorem cls_mono (c : Nat) : ∀ i j, i ≤ j → j < 388 → 0 < inR (key clsS.data.toList 12 j) (fld clsS.data.toList 12 j 5 5) c → 0 < inR (key clsS.data.toList 12 i) (fld clsS.data.toList 12 i 5 5) c := by
  intro i j hij hj h
  rw [inR_pos] at h ⊢
  by_cases e : i = j
  · subst e; exact h
  · have h1 := cls_apart i j (by omega) hj
    have h2 := cls_in i (by omega)
    omega
theorem cls_found {c r : Nat} {ok : Bool} (h : FindP (fun i => inR (key clsS.data.toList 12 i) (fld clsS.data.toList 12 i 5 5) c) 388 r ok) :
    (ok = true ∧ r < 388 ∧ clsOf c = fld clsS.data.toList 12 r 10 2) ∨ (ok = false ∧ clsOf c = 0) := by
  obtain ⟨h1, h2, h3, h4⟩ := h
  cases ok with
  | true =>
    obtain ⟨h5, h6⟩ := h4.1 rfl
    refine .inl ⟨rfl, h5, ?_⟩
    have h7 := (inR_zero _ _ _).1 h6
    have hr : rank clsL 12 c 388 = r + 1 := last_uniq (rank_last cls_rising c) ⟨h5, fun _ => by rw [Nat.add_sub_cancel]; exact h7.1, fun i g1 g2 => by
      have := cls_apart r i (by omega) g2; omega⟩
    unfold clsOf
    rw [hr, if_neg (Nat.succ_ne_zero r), Nat.add_sub_cancel]
    unfold clsL
    rw [if_neg (by omega)]
  | false =>
    refine .inr ⟨rfl, ?_⟩
    have h5 : r < 388 → c < key clsS.data.toList 12 r := fun hlt => by
      have g1 := h3 r (Nat.le_refl _) hlt
      have g2 : ¬ inR (key clsS.data.toList 12 r) (fld clsS.data.toList 12 r 5 5) c = 0 := fun e => Bool.noConfusion (h4.2 ⟨hlt, e⟩)
      have g3 : ¬ 0 < inR (key clsS.data.toList 12 r) (fld clsS.data.toList 12 r 5 5) c := by simp only at g1; omega
      rw [inR_pos] at g3
      rw [inR_zero] at g2
      omega
    have h6 : ∀ i, i < r → fld clsS.data.toList 12 i 5 5 < c := fun i hi => ((inR_pos _ _ _).1 (h2 i hi)).2
    have hr : rank clsL 12 c 388 = r := last_uniq (rank_last cls_rising c) ⟨h1, fun hp => by
      have g1 := h6 (r - 1) (by omega)
      have g2 := cls_in (r - 1) (by omega)
      omega, fun i g1 g2 => Nat.lt_of_lt_of_le (h5 (by omega)) (key_le cls_rising _ _ g1 g2)⟩
    unfold clsOf
    rw [hr]
    by_cases hz : r = 0
    · rw [if_pos hz]
    · rw [if_neg hz, if_pos (by unfold clsL; exact h6 (r - 1) (by omega))]

end Go.Proofs.Ythkbjbbffkgpfaa
