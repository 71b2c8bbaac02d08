/- Marks in their order, plain: more: where the noughts stand; rows of marks; whether a list is in order, as a Bool. -/
import Derived.Test.YthkbjbbffkgpfaaStb
namespace Go.Proofs.Ythkbjbbffkgpfaa.Ordr
open Go.Proofs.Ythkbjbbffkgpfaa.Stb
variable (cls : Nat → Nat)

theorem ins_zeros (c : Nat) : ∀ r, (ins cls c r).map (fun x => cls x == 0) = (c :: r).map (fun x => cls x == 0)
  | [] => rfl
  | d :: r => by
    unfold ins
    split
    · rename_i h
      have h1 : (cls c == 0) = false := by rw [beq_eq_false_iff_ne]; exact h.1
      have h2 : (cls d == 0) = false := by rw [beq_eq_false_iff_ne]; omega
      rw [List.map_cons, ins_zeros c r]
      simp [h1, h2]
    · rfl
theorem kept_zeros (l : List Nat) : ∀ acc, (kept cls l acc).map (fun x => cls x == 0) = (l.reverse ++ acc).map (fun x => cls x == 0) := by
  induction l with
  | nil => intro acc; rfl
  | cons c l ih =>
    intro acc
    show (kept cls l (ins cls c acc)).map _ = _
    rw [ih, List.map_append, ins_zeros, ← List.map_append]
    simp
theorem ord_zeros (l : List Nat) : (ord cls l).map (fun x => cls x == 0) = l.map (fun x => cls x == 0) := by
  unfold ord
  rw [List.map_reverse, kept_zeros, List.append_nil, List.map_reverse, List.reverse_reverse]

/-- Those that are no marks stay where they are. -/
theorem ord_at {l : List Nat} {i : Nat} (h : i < l.length) (hz : cls l[i] = 0 ∨ cls ((ord cls l)[i]'(by rw [ord_len]; exact h)) = 0) : (ord cls l)[i]'(by rw [ord_len]; exact h) = l[i] := by
  have hz2 : cls l[i] = 0 := by
    rcases hz with hz | hz
    · exact hz
    · have hm := ord_zeros cls l
      have h1 : ((ord cls l).map (fun x => cls x == 0))[i]? = (l.map (fun x => cls x == 0))[i]? := by rw [hm]
      rw [List.getElem?_map, List.getElem?_map, List.getElem?_eq_getElem h, List.getElem?_eq_getElem (by rw [ord_len]; exact h)] at h1
      simp only [Option.map_some, Option.some.injEq] at h1
      rw [hz] at h1
      simpa using h1.symm
  have hl : l = l.take i ++ l[i] :: l.drop (i + 1) := by rw [← List.drop_eq_getElem_cons h, List.take_append_drop]
  have hp := ord_parts cls (l.take i) (b := l[i] :: l.drop (i + 1)) (fun z t e => by injection e with e1 _; rw [← e1]; exact hz2)
  rw [← hl] at hp
  obtain ⟨t, ht⟩ : ∃ t, ord cls (l[i] :: l.drop (i + 1)) = l[i] :: t := by
    unfold ord
    have hk : kept cls (l[i] :: l.drop (i + 1)) [] = kept cls (l.drop (i + 1)) ([] ++ [l[i]]) := rfl
    rw [hk]
    have : ∀ (m r : List Nat), ∃ t, kept cls m (r ++ [l[i]]) = t ++ [l[i]] := fun m => by
      induction m with
      | nil => intro r; exact ⟨r, rfl⟩
      | cons c m ih =>
        intro r
        obtain ⟨t, e⟩ := ins_last cls hz2 c r
        show ∃ t, kept cls m (ins cls c (r ++ [l[i]])) = _
        rw [e]
        exact ih t
    obtain ⟨t, e⟩ := this (l.drop (i + 1)) []
    exact ⟨t.reverse, by rw [e]; simp⟩
  rw [ht] at hp
  have hlen : (ord cls (l.take i)).length = i := by rw [ord_len, List.length_take]; omega
  have h2 : (ord cls l)[i]? = some l[i] := by
    rw [hp, List.getElem?_append_right (by omega), hlen, Nat.sub_self]; rfl
  rw [List.getElem?_eq_getElem (by rw [ord_len]; exact h)] at h2
  exact Option.some.inj h2

theorem up_down : ∀ r, (∀ x ∈ r, cls x ≠ 0) → up cls r → r.Pairwise (fun x y => cls y ≤ cls x)
  | [], _, _ => List.Pairwise.nil
  | [c], _, _ => List.pairwise_singleton _ _
  | c :: d :: r, hz, h => by
    have ih := up_down (d :: r) (fun x hx => hz x (List.mem_cons_of_mem _ hx)) h.2
    have hcd : cls d ≤ cls c := by
      have := hz c (by simp)
      have := h.1
      omega
    refine List.pairwise_cons.2 ⟨fun y hy => ?_, ih⟩
    rcases List.mem_cons.1 hy with rfl | hy
    · exact hcd
    · have := (List.pairwise_cons.1 ih).1 y hy
      omega
theorem isOrd_srt {l : List Nat} (hz : ∀ x ∈ l, cls x ≠ 0) (h : isOrd cls l) : srt cls l := by
  have := up_down cls l.reverse (fun x hx => hz x (List.mem_reverse.1 hx)) h
  rwa [List.pairwise_reverse] at this
/-- A row of marks that is sorted as it should be is the one in order. -/
theorem ord_row {l r : List Nat} (hz : ∀ x ∈ l, cls x ≠ 0) (hs : srt cls r) (ha : Arr cls r l) : r = ord cls l := by
  refine uniq r (ord cls l) hs (isOrd_srt cls (fun x hx => hz x ((ord_perm cls l).mem_iff.1 hx)) (ord_is cls l)) fun k => ?_
  rw [ha.keep, ord_filter]
/-- A list whose first is no mark, or that has none. -/
theorem ord_zero_cons {z : Nat} (_ : cls z = 0) (b : List Nat) (hb : ∀ y t, b = y :: t → cls y = 0) : ord cls (z :: b) = z :: ord cls b := by
  have := ord_parts cls [z] (b := b) hb
  simpa [ord, kept, ins] using this

/-! ### As a Bool -/
def upB : List Nat → Bool
  | c :: d :: r => (cls c == 0 || decide (cls d ≤ cls c)) && upB (d :: r)
  | _ => true
def ordB (l : List Nat) : Bool := upB cls l.reverse
theorem upB_iff : ∀ r, upB cls r = true ↔ up cls r
  | [] => by simp [upB, up]
  | [c] => by simp [upB, up]
  | c :: d :: r => by
    unfold upB up
    rw [Bool.and_eq_true, upB_iff (d :: r), Bool.or_eq_true, beq_iff_eq, decide_eq_true_eq]
    constructor
    · rintro ⟨h, k⟩; exact ⟨by omega, k⟩
    · rintro ⟨h, k⟩; exact ⟨by omega, k⟩
theorem ordB_iff (l : List Nat) : ordB cls l = true ↔ isOrd cls l := upB_iff cls _
theorem ordB_nil : ordB cls [] = true := rfl
theorem ordB_one (c : Nat) : ordB cls [c] = true := rfl
theorem ordB_step {l : List Nat} {i : Nat} (h : i + 1 < l.length) : ordB cls (l.take (i + 2)) = ((cls l[i + 1] == 0 || decide (cls (l[i]'(by omega)) ≤ cls l[i + 1])) && ordB cls (l.take (i + 1))) := by
  unfold ordB
  rw [List.take_succ_eq_append_getElem h, List.take_succ_eq_append_getElem (show i < l.length by omega)]
  simp only [List.reverse_append, List.reverse_cons, List.reverse_nil, List.nil_append, List.cons_append]
  rfl
theorem ordB_left {a b : List Nat} (h : ordB cls (a ++ b) = true) : ordB cls a = true := (ordB_iff cls a).2 (isOrd_app_left cls ((ordB_iff cls _).1 h))

end Go.Proofs.Ythkbjbbffkgpfaa.Ordr
