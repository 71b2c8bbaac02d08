/- The program's order, plain: places are sorted row by row; whether a list is in order, step by step. -/
import Derived.Test.YthkbjbbffkgpfaaOpa
namespace Go.Proofs.Ythkbjbbffkgpfaa
open Go.Proofs.Ythkbjbbffkgpfaa.Ordr Go.Proofs.Ythkbjbbffkgpfaa.Stb
section plain
variable (cls : Nat → Nat)

theorem ins_end {z : Nat} (hz : cls z = 0) (c : Nat) : ∀ r, ins cls c (r ++ [z]) = ins cls c r ++ [z]
  | [] => by
    show ins cls c [z] = [c] ++ [z]
    unfold ins
    rw [if_neg (by omega)]; rfl
  | d :: r => by
    show ins cls c (d :: (r ++ [z])) = ins cls c (d :: r) ++ [z]
    unfold ins
    split
    · rw [ins_end hz c r]; rfl
    · simp
theorem kept_end {z : Nat} (hz : cls z = 0) (b : List Nat) : ∀ r, kept cls b (r ++ [z]) = kept cls b r ++ [z] := by
  induction b with
  | nil => intro r; rfl
  | cons c b ih =>
    intro r
    show kept cls b (ins cls c (r ++ [z])) = kept cls b (ins cls c r) ++ [z]
    rw [ins_end cls hz, ih]
theorem ord_cut (a b : List Nat) {z : Nat} (hz : cls z = 0) : ord cls (a ++ z :: b) = ord cls a ++ z :: ord cls b := by
  have h1 : kept cls (a ++ z :: b) [] = kept cls b [z] ++ kept cls a [] := by
    rw [kept_app]
    show kept cls b (ins cls z (kept cls a [])) = _
    rw [ins_zero cls hz]
    exact kept_wall cls hz (kept cls a []) b []
  have h2 := kept_end cls hz b []
  rw [List.nil_append] at h2
  unfold ord
  rw [h1, h2]
  simp

/-- A number by its place. -/
def byPlace (l : List Nat) (i : Nat) : Nat := l.getD i 0
theorem byPlace_get {l : List Nat} {i : Nat} (h : i < l.length) : byPlace l i = l[i] := by unfold byPlace; simp [h]
theorem map_range (l : List Nat) : ∀ (n k : Nat), k + n = l.length → (List.range' k n).map (byPlace l) = l.drop k
  | 0, k, h => by rw [List.drop_of_length_le (by omega)]; rfl
  | n + 1, k, h => by
    rw [List.range'_succ, List.map_cons, map_range l n (k + 1) (by omega), byPlace_get (by omega : k < l.length), ← List.drop_eq_getElem_cons]

/-- The places, ahead of place k in their order. -/
def PlOk (l : List Nat) (k : Nat) (Q : List Nat) : Prop :=
  (l.length ≤ k ∧ Q.map (byPlace l) = ord cls l) ∨ (k < l.length ∧ ∃ R, Q = R ++ List.range' k (l.length - k) ∧ R.length = k ∧ ∀ b, ord cls (l.take k ++ b) = R.map (byPlace l) ++ ord cls b)
theorem PlOk.zero (l : List Nat) : PlOk cls l 0 (List.range' 0 l.length) := by
  by_cases h : l = []
  · subst h; exact .inl ⟨Nat.le_refl _, rfl⟩
  · exact .inr ⟨List.length_pos_iff.2 h, [], by simp, rfl, fun b => by simp⟩
theorem PlOk.fin {l Q : List Nat} {k : Nat} (h : PlOk cls l k Q) (hk : l.length ≤ k) : Q.map (byPlace l) = ord cls l := by
  rcases h with h | h
  · exact h.2
  · omega

theorem srt_map {f : Nat → Nat} {r : List Nat} (h : srt (fun x => cls (f x)) r) : srt cls (r.map f) := List.pairwise_map.2 h
theorem arr_map {f : Nat → Nat} {r l : List Nat} (h : Arr (fun x => cls (f x)) r l) : Arr cls (r.map f) (l.map f) := by
  refine ⟨fun k => ?_, h.perm.map f⟩
  rw [List.filter_map, List.filter_map]
  exact congrArg (List.map f) (h.keep k)

theorem PlOk.step {l Q : List Nat} {k m : Nat} (h : PlOk cls l k Q) (hk : k < l.length) (hm : mks ((l.map cls).drop k) = m) :
    k + m ≤ l.length ∧ ∃ P L S, Q = P ++ (L ++ S) ∧ P.length = k ∧ L.length = m ∧
      ∀ L', srt (fun x => cls (byPlace l x)) L' → Arr (fun x => cls (byPlace l x)) L' L → PlOk cls l (k + m + 1) (P ++ (L' ++ S)) := by
  have hm0 := mks_le ((l.map cls).drop k)
  rw [hm, List.length_drop, List.length_map] at hm0
  have hkm : k + m ≤ l.length := by omega
  refine ⟨hkm, ?_⟩
  rcases h with h | ⟨_, R, hQ, hR, hord⟩
  · omega
  have hsp : List.range' k (l.length - k) = List.range' k m ++ List.range' (k + m) (l.length - (k + m)) := by
    rw [show l.length - k = m + (l.length - (k + m)) by omega, ← List.range'_append_1]
  refine ⟨R, List.range' k m, List.range' (k + m) (l.length - (k + m)), by rw [hQ, hsp], hR, by simp, fun L' hs ha => ?_⟩
  have hM : (List.range' k m).map (byPlace l) = (l.drop k).take m := by
    have := map_range l (l.length - k) k (by omega)
    rw [hsp, List.map_append] at this
    rw [← this, List.take_append_of_le_length (by simp), List.take_of_length_le (by simp)]
  have hz : ∀ x ∈ (l.drop k).take m, cls x ≠ 0 := fun x hx => by
    obtain ⟨i, hi, rfl⟩ := List.getElem_of_mem hx
    rw [List.length_take, List.length_drop] at hi
    have := mks_mark ((l.map cls).drop k) i (by omega) (by rw [List.length_drop, List.length_map]; omega)
    simpa using this
  have hrow : L'.map (byPlace l) = ord cls ((l.drop k).take m) := by
    refine ord_row cls hz (srt_map cls hs) ?_
    rw [← hM]
    exact arr_map cls ha
  by_cases he : k + m = l.length
  · refine .inl ⟨by omega, ?_⟩
    have e0 : l.length - (k + m) = 0 := by omega
    rw [e0]
    have hl := hord (l.drop k)
    rw [List.take_append_drop] at hl
    rw [hl]
    simp only [List.map_append, List.range'_zero, List.append_nil]
    rw [hrow, List.take_of_length_le (by rw [List.length_drop]; omega)]
  · have hlt : k + m < l.length := by omega
    have hzero : cls l[k + m] = 0 := by
      have := mks_end ((l.map cls).drop k) (by rw [hm, List.length_drop, List.length_map]; omega)
      simp only [hm] at this
      simpa using this
    have htk : l.take (k + m + 1) = l.take k ++ ((l.drop k).take m ++ [l[k + m]]) := by
      rw [List.take_succ_eq_append_getElem hlt, List.take_add, List.append_assoc]
    have hall : ∀ b, ord cls (l.take (k + m + 1) ++ b) = (R ++ (L' ++ [k + m])).map (byPlace l) ++ ord cls b := fun b => by
      rw [htk, List.append_assoc, List.append_assoc, hord, List.singleton_append, ord_cut cls _ _ hzero, ← hrow, List.map_append, List.map_append, List.map_singleton, byPlace_get hlt]
      simp
    have hrest : List.range' (k + m) (l.length - (k + m)) = (k + m) :: List.range' (k + m + 1) (l.length - (k + m + 1)) := by
      rw [show l.length - (k + m) = (l.length - (k + m + 1)) + 1 by omega, List.range'_succ]
    rw [hrest]
    by_cases he2 : k + m + 1 = l.length
    · refine .inl ⟨by omega, ?_⟩
      have hl := hall []
      rw [List.append_nil, List.take_of_length_le (by omega)] at hl
      rw [hl, show l.length - (k + m + 1) = 0 by omega]
      simp [ord, kept]
    · refine .inr ⟨by omega, R ++ (L' ++ [k + m]), by simp, ?_, hall⟩
      have := ha.len
      simp only [List.length_append, List.length_range', List.length_singleton] at this ⊢
      omega

/-- The class right ahead of place k. -/
def ahead (l : List Nat) : Nat → Nat
  | 0 => 0
  | k + 1 => cls (byPlace l k)
theorem is_step {l : List Nat} {k : Nat} (h : k < l.length) : ordB cls (l.take (k + 1)) = ((cls l[k] == 0 || decide (ahead cls l k ≤ cls l[k])) && ordB cls (l.take k)) := by
  cases k with
  | zero =>
    cases l with
    | nil => simp at h
    | cons x t => simp [ahead, ordB, upB]
  | succ k =>
    rw [ordB_step cls h]
    show _ = ((_ || decide (cls (byPlace l k) ≤ _)) && _)
    rw [byPlace_get (by omega : k < l.length)]
end plain
end Go.Proofs.Ythkbjbbffkgpfaa
