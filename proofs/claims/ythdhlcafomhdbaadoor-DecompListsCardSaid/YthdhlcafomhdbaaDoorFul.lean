/- Full decompositions as lists, and what they keep. -/
import Derived.Test.YthdhlcafomhdbaaDoorFub
import Derived.Test.YthdhlcafomhdbaaDoorFud
import Derived.Test.YthdhlcafomhdbaaDoorHgq
import Derived.Test.YthdhlcafomhdbaaDoorUde
import Derived.Test.YthdhlcafomhdbaaDoorNrmr
namespace Go.Proofs.YthdhlcafomhdbaaDoor
open Go.RowKit Go.Proofs.YthdhlcafomhdbaaDoor.Ordr Go.Proofs.YthdhlcafomhdbaaDoor.Cmpr

noncomputable def fulN : Nat → Nat → List Nat
  | 0, c => if isS c = true then (if splT c = 0 then [splL c, splV c] else [splL c, splV c, splT c]) else [c]
  | n + 1, c => if isS c = true then (if splT c = 0 then [splL c, splV c] else [splL c, splV c, splT c]) else
      if decOk c = true then (if decB c = 0 then fulN n (decA c) else fulN n (decA c) ++ fulN n (decB c)) else [c]
noncomputable def full (c : Nat) : List Nat := fulN 6 c

theorem decOk_iff (c : Nat) : decOk c = true ↔ rowOf c ≠ 0 := by unfold decOk; exact decide_eq_true_iff
theorem not_S {c : Nat} (h : plainC c = true) : isS c = false := by
  rw [Bool.eq_false_iff]
  intro h2
  have := (isS_iff c).1 h2
  have := (plain_iff c).1 h
  omega
theorem row_S {c : Nat} (h : rowOf c ≠ 0) : isS c = false := not_S (row_p h).key
theorem jam_none {c : Nat} (h : 4352 ≤ c ∧ c ≤ 4607) : rowOf c = 0 := Decidable.byContradiction fun hx => by
  have := (plain_iff c).1 (row_p hx).key
  omega
theorem fulN_S {c : Nat} (h : isS c = true) : ∀ n, fulN n c = if splT c = 0 then [splL c, splV c] else [splL c, splV c, splT c]
  | 0 => by unfold fulN; rw [if_pos h]
  | n + 1 => by unfold fulN; rw [if_pos h]
theorem fulN_no {c : Nat} (hs : isS c = false) (h : rowOf c = 0) : ∀ n, fulN n c = [c]
  | 0 => by unfold fulN; rw [if_neg (by rw [hs]; decide)]
  | n + 1 => by unfold fulN; rw [if_neg (by rw [hs]; decide), if_neg (fun e => (decOk_iff c).1 e h)]
theorem fulN_row {c : Nat} (h : rowOf c ≠ 0) (n : Nat) : fulN (n + 1) c = fulN n (decA c) ++ (if decB c = 0 then [] else [decB c]) := by
  conv => lhs; unfold fulN
  rw [if_neg (by rw [row_S h]; decide), if_pos ((decOk_iff c).2 h)]
  by_cases hb : decB c = 0
  · rw [if_pos hb, if_pos hb, List.append_nil]
  · rw [if_neg hb, if_neg hb, fulN_no (not_S (row_p h).b) (deep h).1]
theorem fulN_ends : ∀ (k : Nat) (c n m : Nat), Ends k c → k ≤ n → k ≤ m → fulN n c = fulN m c
  | 0, c, n, m, h, _, _ => by
    cases hs : isS c with
    | true => rw [fulN_S hs, fulN_S hs]
    | false => rw [fulN_no hs h, fulN_no hs h]
  | k + 1, c, n, m, h, h1, h2 => by
    by_cases hr : rowOf c = 0
    · exact fulN_ends 0 c n m hr (Nat.zero_le _) (Nat.zero_le _)
    · obtain ⟨n, rfl⟩ : ∃ n', n = n' + 1 := ⟨n - 1, by omega⟩
      obtain ⟨m, rfl⟩ : ∃ m', m = m' + 1 := ⟨m - 1, by omega⟩
      rw [fulN_row hr, fulN_row hr, fulN_ends k (decA c) n m (h hr) (by omega) (by omega)]
theorem full_S {c : Nat} (h : isS c = true) : full c = if splT c = 0 then [splL c, splV c] else [splL c, splV c, splT c] := fulN_S h 6
theorem full_no {c : Nat} (hs : isS c = false) (h : rowOf c = 0) : full c = [c] := fulN_no hs h 6
theorem full_row {c : Nat} (h : rowOf c ≠ 0) : full c = full (decA c) ++ (if decB c = 0 then [] else [decB c]) := by
  unfold full
  rw [fulN_row h 5, fulN_ends 2 (decA c) 5 6 (ends_three c h) (by omega) (by omega)]
theorem full_two {c : Nat} (h : rowOf c ≠ 0) : full c = full (decA c) ++ (if decB c = 0 then [] else full (decB c)) := by
  rw [full_row h, full_no (not_S (row_p h).b) (deep h).1]

/-- By what a character is decomposed to. -/
theorem full_ind {P : Nat → Prop} (hS : ∀ c, isS c = true → P c) (h0 : ∀ c, isS c = false → rowOf c = 0 → P c) (hr : ∀ c, rowOf c ≠ 0 → isS c = false → P (decA c) → P c) (c : Nat) : P c := by
  have key : ∀ k c, Ends k c → P c := fun k => by
    induction k with
    | zero =>
      intro c h
      cases hs : isS c with
      | true => exact hS c hs
      | false => exact h0 c hs h
    | succ k ih =>
      intro c h
      cases hs : isS c with
      | true => exact hS c hs
      | false =>
        by_cases hx : rowOf c = 0
        · exact h0 c hs hx
        · exact hr c hx hs (ih _ (h hx))
  exact key 3 c (ends_three c)

theorem spl_range {c : Nat} (h : isS c = true) : (4352 ≤ splL c ∧ splL c ≤ 4370) ∧ (4449 ≤ splV c ∧ splV c ≤ 4469) ∧ (splT c = 0 ∨ 4520 ≤ splT c ∧ splT c ≤ 4546) := by
  have := (putOk_iff _ _ _).1 (spl_ok h)
  omega
theorem jam_S {c : Nat} (h : 4352 ≤ c ∧ c ≤ 4607) : isS c = false := by
  rw [Bool.eq_false_iff]
  intro h2
  have := (isS_iff c).1 h2
  omega
theorem jam_full {c : Nat} (h : 4352 ≤ c ∧ c ≤ 4607) : full c = [c] := full_no (jam_S h) (jam_none h)

/-- None of a full decomposition is a syllable, or decomposed. -/
theorem full_mem (c : Nat) : ∀ y ∈ full c, isS y = false ∧ rowOf y = 0 := by
  refine full_ind (P := fun c => ∀ y ∈ full c, isS y = false ∧ rowOf y = 0) ?_ ?_ ?_ c
  · intro c h y hy
    obtain ⟨h1, h2, h3⟩ := spl_range h
    rw [full_S h] at hy
    have hy2 : 4352 ≤ y ∧ y ≤ 4607 := by
      split at hy <;> simp only [List.mem_cons, List.not_mem_nil, or_false] at hy <;> omega
    exact ⟨jam_S hy2, jam_none hy2⟩
  · intro c hs h y hy
    rw [full_no hs h] at hy
    rw [List.mem_singleton.1 hy]
    exact ⟨hs, h⟩
  · intro c h hs ih y hy
    rw [full_row h, List.mem_append] at hy
    rcases hy with hy | hy
    · exact ih y hy
    · split at hy
      · exact absurd hy (by simp)
      · rw [List.mem_singleton.1 hy]
        exact ⟨not_S (row_p h).b, (deep h).1⟩
theorem full_whole (c : Nat) : ∀ y ∈ full c, full y = [y] := fun y hy => full_no (full_mem c y hy).1 (full_mem c y hy).2
theorem full_some (c : Nat) : full c ≠ [] := by
  refine full_ind (P := fun c => full c ≠ []) ?_ ?_ ?_ c
  · intro c h; rw [full_S h]; split <;> simp
  · intro c hs h; rw [full_no hs h]; simp
  · intro c h hs ih; rw [full_row h]; simp [ih]
theorem full_len (c : Nat) : (full c).length ≤ 4 := by
  have key : ∀ k c, Ends k c → k ≤ 3 → (full c).length ≤ k + 1 ∨ isS c = true := fun k => by
    induction k with
    | zero =>
      intro c h _
      cases hs : isS c with
      | true => exact .inr rfl
      | false => rw [full_no hs h]; exact .inl (Nat.le_refl _)
    | succ k ih =>
      intro c h hk
      cases hs : isS c with
      | true => exact .inr rfl
      | false =>
        by_cases hx : rowOf c = 0
        · rw [full_no hs hx]; exact .inl (by simp)
        · left
          rw [full_row hx, List.length_append]
          rcases ih _ (h hx) (by omega) with h1 | h1
          · split <;> simp <;> omega
          · rw [not_S (row_p hx).a] at h1; exact Bool.noConfusion h1
  rcases key 3 c (ends_three c) (by omega) with h | h
  · exact h
  · rw [full_S h]; split <;> simp

/-- Whole: it is its own full decomposition. -/
theorem whole_iff (c : Nat) : full c = [c] ↔ isS c = false ∧ rowOf c = 0 := by
  constructor
  · intro h; exact full_mem c c (by rw [h]; simp)
  · rintro ⟨h1, h2⟩; exact full_no h1 h2

/-! ### The classes -/
theorem blt_of {a b : Nat} (h : Nat.blt a b = true) : a < b := Nat.le_of_ble_eq_true h
/-! ### In order -/
theorem isOrd_snoc (cls : Nat → Nat) {l : List Nat} {z b : Nat} (h : isOrd cls (l ++ [z])) (hb : cls b ≠ 0 → cls z ≤ cls b) : isOrd cls (l ++ [z] ++ [b]) := by
  unfold isOrd at *
  simp only [List.reverse_append, List.reverse_cons, List.reverse_nil, List.nil_append, List.cons_append] at *
  exact ⟨fun h2 => by have := hb h2.1; omega, h⟩
theorem isOrd_one (cls : Nat → Nat) (c : Nat) : isOrd cls [c] := trivial
theorem isOrd_zero (cls : Nat → Nat) {l : List Nat} (h : ∀ y ∈ l, cls y = 0) : isOrd cls l := by
  have : ∀ m : List Nat, (∀ y ∈ m, cls y = 0) → up cls m := fun m => by
    induction m with
    | nil => intro _; trivial
    | cons x m ih =>
      intro hm
      cases m with
      | nil => trivial
      | cons y m => exact ⟨fun h2 => h2.1 (hm x (by simp)), ih (fun z hz => hm z (by simp [hz]))⟩
  exact this _ (fun y hy => h y (by simpa using hy))
theorem lastN_ends : ∀ (k x n m : Nat), Ends k x → k ≤ n → k ≤ m → lastN n x = lastN m x
  | 0, x, n, m, h, _, _ => by
    have : ∀ n, lastN n x = x := fun n => by
      cases n with
      | zero => rfl
      | succ n => unfold lastN; rw [if_pos (show rowOf x = 0 from h)]
    rw [this, this]
  | k + 1, x, n, m, h, h1, h2 => by
    by_cases hr : rowOf x = 0
    · exact lastN_ends 0 x n m hr (Nat.zero_le _) (Nat.zero_le _)
    · obtain ⟨n, rfl⟩ : ∃ n', n = n' + 1 := ⟨n - 1, by omega⟩
      obtain ⟨m, rfl⟩ : ∃ m', m = m' + 1 := ⟨m - 1, by omega⟩
      unfold lastN
      rw [if_neg hr, if_neg hr]
      split
      · exact lastN_ends k _ n m (h hr) (by omega) (by omega)
      · rfl
theorem firstN_ends : ∀ (k x n m : Nat), Ends k x → k ≤ n → k ≤ m → firstN n x = firstN m x
  | 0, x, n, m, h, _, _ => by
    have : ∀ n, firstN n x = x := fun n => by
      cases n with
      | zero => rfl
      | succ n => unfold firstN; rw [if_pos (show rowOf x = 0 from h)]
    rw [this, this]
  | k + 1, x, n, m, h, h1, h2 => by
    by_cases hr : rowOf x = 0
    · exact firstN_ends 0 x n m hr (Nat.zero_le _) (Nat.zero_le _)
    · obtain ⟨n, rfl⟩ : ∃ n', n = n' + 1 := ⟨n - 1, by omega⟩
      obtain ⟨m, rfl⟩ : ∃ m', m = m' + 1 := ⟨m - 1, by omega⟩
      unfold firstN
      rw [if_neg hr, if_neg hr]
      exact firstN_ends k _ n m (h hr) (by omega) (by omega)
theorem last_row {x : Nat} (h : rowOf x ≠ 0) : lastN 3 x = if decB x = 0 then lastN 3 (decA x) else decB x := by
  have e := lastN_ends 2 (decA x) 2 3 (ends_three x h) (by omega) (by omega)
  conv => lhs; unfold lastN
  rw [if_neg h, e]
theorem first_row {x : Nat} (h : rowOf x ≠ 0) : firstN 3 x = firstN 3 (decA x) := by
  have e := firstN_ends 2 (decA x) 2 3 (ends_three x h) (by omega) (by omega)
  conv => lhs; unfold firstN
  rw [if_neg h, e]
theorem no_3 {x : Nat} (h : rowOf x = 0) : lastN 3 x = x ∧ firstN 3 x = x := by
  unfold lastN firstN
  rw [if_pos h, if_pos h]
  exact ⟨rfl, rfl⟩
/-- The last one. -/
theorem full_last (c : Nat) : isS c = false → ∃ l, full c = l ++ [lastN 3 c] := by
  refine full_ind (P := fun c => isS c = false → ∃ l, full c = l ++ [lastN 3 c]) ?_ ?_ ?_ c
  · intro c h h2; rw [h] at h2; exact Bool.noConfusion h2
  · intro c hs h _; exact ⟨[], by rw [full_no hs h, (no_3 h).1]; rfl⟩
  · intro c h hs ih _
    obtain ⟨l, hl⟩ := ih (not_S (row_p h).a)
    rw [full_row h, last_row h]
    by_cases hb : decB c = 0
    · rw [if_pos hb, if_pos hb, List.append_nil]; exact ⟨l, hl⟩
    · rw [if_neg hb, if_neg hb]; exact ⟨_, rfl⟩
theorem full_first (c : Nat) : isS c = false → ∃ l, full c = firstN 3 c :: l := by
  refine full_ind (P := fun c => isS c = false → ∃ l, full c = firstN 3 c :: l) ?_ ?_ ?_ c
  · intro c h h2; rw [h] at h2; exact Bool.noConfusion h2
  · intro c hs h _; exact ⟨[], by rw [full_no hs h, (no_3 h).2]⟩
  · intro c h hs ih _
    obtain ⟨l, hl⟩ := ih (not_S (row_p h).a)
    rw [full_row h, first_row h, hl]
    exact ⟨_, rfl⟩
set_option maxRecDepth 100000 in
theorem full_ord_of (cls : Nat → Nat) (hj : ∀ y, 4352 ≤ y ∧ y ≤ 4607 → cls y = 0) (ho : ∀ x, rowOf x ≠ 0 → decB x ≠ 0 → cls (decB x) ≠ 0 → cls (lastN 3 (decA x)) ≤ cls (decB x)) (c : Nat) : isOrd cls (full c) := by
  refine full_ind (P := fun c => isOrd cls (full c)) ?_ ?_ ?_ c
  · intro c h
    refine isOrd_zero cls fun y hy => hj y ?_
    obtain ⟨h1, h2, h3⟩ := spl_range h
    rw [full_S h] at hy
    split at hy <;> simp only [List.mem_cons, List.not_mem_nil, or_false] at hy <;> omega
  · intro c hs h
    rw [full_no hs h]
    exact isOrd_one cls c
  · intro c h hs ih
    have e := full_row h
    have ho' := ho c h
    obtain ⟨l, hl⟩ := full_last (decA c) (not_S (row_p h).a)
    clear h hs ho
    rw [hl] at ih e
    generalize full c = F at *
    generalize decB c = b at *
    generalize lastN 3 (decA c) = z at *
    subst e
    by_cases hb : b = 0
    · rw [if_pos hb, List.append_nil]; exact ih
    · rw [if_neg hb]
      exact isOrd_snoc cls ih fun h2 => ho' hb h2
/-! ### Two -/
end Go.Proofs.YthdhlcafomhdbaaDoor
