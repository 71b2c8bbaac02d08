/- Full decompositions: what starts; what is composed to itself; widths; code points. -/
import Derived.Test.YthdhlcafomhdbaaDoorFul
namespace Go.Proofs.YthdhlcafomhdbaaDoor
open Go.RowKit Go.Proofs.YthdhlcafomhdbaaDoor.Ordr Go.Proofs.YthdhlcafomhdbaaDoor.Cmpr

theorem join_hanV {a b : Nat} (h : joinOk a b = true) : hanV b = true := by
  unfold joinOk at h
  rw [Bool.or_eq_true, lv_iff, lvt_iff] at h
  unfold hanV
  rw [Bool.or_eq_true, Bool.and_eq_true, Bool.and_eq_true, decide_eq_true_eq, decide_eq_true_eq, decide_eq_true_eq, decide_eq_true_eq]
  omega
theorem plain_hanV {c : Nat} (h : plainC c = true) : hanV c = false := by
  rw [Bool.eq_false_iff]
  intro h2
  have := (plain_iff c).1 h
  unfold hanV at h2
  rw [Bool.or_eq_true, Bool.and_eq_true, Bool.and_eq_true, decide_eq_true_eq, decide_eq_true_eq, decide_eq_true_eq, decide_eq_true_eq] at h2
  omega
theorem first_plain : ∀ (n x : Nat), plainC x = true → plainC (firstN n x) = true
  | 0, _, h => h
  | n + 1, x, h => by
    unfold firstN
    by_cases hr : rowOf x = 0
    · rw [if_pos hr]; exact h
    · rw [if_neg hr]; exact first_plain n _ (row_p hr).a
theorem join_plain {a b : Nat} (h : plainC a = true) : joinOk a b = false := by
  rw [Bool.eq_false_iff]
  intro h2
  have := (plain_iff a).1 h
  unfold joinOk at h2
  rw [Bool.or_eq_true, lv_iff, lvt_iff] at h2
  omega
/-! ### Code points and widths -/
def okC (c : Nat) : Bool := decide (c ≤ 1114111) && (decide (c < 55296) || decide (57343 < c))
theorem okC_iff (c : Nat) : okC c = true ↔ c ≤ 1114111 ∧ (c < 55296 ∨ 57343 < c) := by
  unfold okC
  rw [Bool.and_eq_true, Bool.or_eq_true, decide_eq_true_eq, decide_eq_true_eq, decide_eq_true_eq]
theorem plain_ok {c : Nat} (h : plainC c = true) : okC c = true := by
  rw [okC_iff]
  have := (plain_iff c).1 h
  omega
theorem full_ok (c : Nat) : okC c = true → ∀ y ∈ full c, okC y = true := by
  refine full_ind (P := fun c => okC c = true → ∀ y ∈ full c, okC y = true) ?_ ?_ ?_ c
  · intro c h _ y hy
    obtain ⟨h1, h2, h3⟩ := spl_range h
    rw [full_S h] at hy
    rw [okC_iff]
    split at hy <;> simp only [List.mem_cons, List.not_mem_nil, or_false] at hy <;> omega
  · intro c hs h hc y hy
    rw [full_no hs h] at hy
    rw [List.mem_singleton.1 hy]; exact hc
  · intro c h hs ih _ y hy
    rw [full_row h, List.mem_append] at hy
    rcases hy with hy | hy
    · exact ih (plain_ok (row_p h).a) y hy
    · split at hy
      · exact absurd hy (by simp)
      · rw [List.mem_singleton.1 hy]; exact plain_ok (row_p h).b
theorem full_lt (c : Nat) (hc : c < 4294967296) : ∀ y ∈ full c, y < 4294967296 := by
  refine full_ind (P := fun c => c < 4294967296 → ∀ y ∈ full c, y < 4294967296) ?_ ?_ ?_ c hc
  · intro c h _ y hy
    obtain ⟨h1, h2, h3⟩ := spl_range h
    rw [full_S h] at hy
    split at hy <;> simp only [List.mem_cons, List.not_mem_nil, or_false] at hy <;> omega
  · intro c hs h hc y hy
    rw [full_no hs h] at hy
    rw [List.mem_singleton.1 hy]; exact hc
  · intro c h hs ih _ y hy
    have p1 := (plain_iff _).1 (row_p h).a
    have p2 := (plain_iff _).1 (row_p h).b
    rw [full_row h, List.mem_append] at hy
    rcases hy with hy | hy
    · exact ih (by omega) y hy
    · split at hy
      · exact absurd hy (by simp)
      · rw [List.mem_singleton.1 hy]; omega
theorem widU_eq (c : Nat) : widU c = if c < 128 then 1 else if c < 2048 then 2 else if c < 65536 then 3 else 4 := by
  have key : ∀ k : Nat, Nat.blt c k = decide (c < k) := fun k => by
    rw [Bool.eq_iff_iff, decide_eq_true_eq]
    exact ⟨blt_of, fun h => Nat.ble_eq_true_of_le h⟩
  unfold widU
  rw [key, key, key]
  by_cases h1 : c < 128
  · simp [h1]
  · by_cases h2 : c < 2048
    · simp [h1, h2]
    · by_cases h3 : c < 65536
      · simp [h1, h2, h3]
      · simp [h1, h2, h3]
/-- How many bytes a list of code points takes. -/
def widL (l : List Nat) : Nat := (l.map widU).sum
theorem widL_app (a b : List Nat) : widL (a ++ b) = widL a + widL b := by unfold widL; simp
theorem widL_perm {a b : List Nat} (h : a.Perm b) : widL a = widL b := by
  unfold widL
  exact (h.map widU).sum_nat
theorem widN_ends : ∀ (k x n m : Nat), Ends k x → k ≤ n → k ≤ m → widN n x = widN m x
  | 0, x, n, m, h, _, _ => by
    have : ∀ n, widN n x = widU x := fun n => by
      cases n with
      | zero => rfl
      | succ n => unfold widN; rw [if_pos (show rowOf x = 0 from h)]
    rw [this, this]
  | k + 1, x, n, m, h, h1, h2 => by
    by_cases hr : rowOf x = 0
    · exact widN_ends 0 x n m hr (Nat.zero_le _) (Nat.zero_le _)
    · obtain ⟨n, rfl⟩ : ∃ n', n = n' + 1 := ⟨n - 1, by omega⟩
      obtain ⟨m, rfl⟩ : ∃ m', m = m' + 1 := ⟨m - 1, by omega⟩
      unfold widN
      rw [if_neg hr, if_neg hr, widN_ends k _ n m (h hr) (by omega) (by omega)]
theorem wid_full (c : Nat) : isS c = false → widL (full c) = widN 3 c := by
  refine full_ind (P := fun c => isS c = false → widL (full c) = widN 3 c) ?_ ?_ ?_ c
  · intro c h h2; rw [h] at h2; exact Bool.noConfusion h2
  · intro c hs h _
    rw [full_no hs h]
    unfold widN
    rw [if_pos h]
    unfold widL; simp
  · intro c h hs ih _
    have e := widN_ends 2 (decA c) 2 3 (ends_three c h) (by omega) (by omega)
    rw [full_row h, widL_app, ih (not_S (row_p h).a)]
    conv => rhs; unfold widN
    rw [if_neg h, e]
    split
    · unfold widL; simp
    · unfold widL; simp
end Go.Proofs.YthdhlcafomhdbaaDoor
