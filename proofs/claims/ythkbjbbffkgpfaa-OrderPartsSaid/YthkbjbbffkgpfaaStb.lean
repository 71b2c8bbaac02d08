/- A stable sort by blocks and symmetric merging, plain: what is sorted, and what each step keeps. -/
import Derived.Test.YthkbjbbffkgpfaaOrdr
namespace Go.Proofs.Ythkbjbbffkgpfaa.Stb
variable {α : Type} (cls : α → Nat)

def srt (l : List α) : Prop := l.Pairwise fun x y => cls x ≤ cls y
/-- The same ones; those of one class in their order. -/
structure Arr (r l : List α) : Prop where
  keep : ∀ k, r.filter (fun x => cls x == k) = l.filter (fun x => cls x == k)
  perm : r.Perm l

theorem Arr.refl (l : List α) : Arr cls l l := ⟨fun _ => rfl, .refl _⟩
variable {cls}
theorem Arr.trans {a b c : List α} (h : Arr cls a b) (k : Arr cls b c) : Arr cls a c := ⟨fun i => (h.keep i).trans (k.keep i), h.perm.trans k.perm⟩
theorem Arr.symm {a b : List α} (h : Arr cls a b) : Arr cls b a := ⟨fun i => (h.keep i).symm, h.perm.symm⟩
theorem Arr.app {a b c d : List α} (h : Arr cls a b) (k : Arr cls c d) : Arr cls (a ++ c) (b ++ d) := ⟨fun i => by rw [List.filter_append, List.filter_append, h.keep, k.keep], h.perm.append k.perm⟩
theorem Arr.len {a b : List α} (h : Arr cls a b) : a.length = b.length := h.perm.length_eq
theorem Arr.mem {a b : List α} (h : Arr cls a b) {x : α} : x ∈ a ↔ x ∈ b := h.perm.mem_iff

/-- Two that share no class change places. -/
theorem arr_swap {a b : List α} (h : ∀ x ∈ a, ∀ y ∈ b, cls x ≠ cls y) : Arr cls (b ++ a) (a ++ b) := by
  refine ⟨fun k => ?_, List.perm_append_comm⟩
  rw [List.filter_append, List.filter_append]
  by_cases ha : ∃ x ∈ a, cls x = k
  · obtain ⟨x, hx, hk⟩ := ha
    have : b.filter (fun x => cls x == k) = [] := by
      rw [List.filter_eq_nil_iff]
      intro y hy
      rw [beq_iff_eq]
      intro e
      exact h x hx y hy (hk.trans e.symm)
    rw [this, List.nil_append, List.append_nil]
  · have : a.filter (fun x => cls x == k) = [] := by
      rw [List.filter_eq_nil_iff]
      intro y hy
      rw [beq_iff_eq]
      exact fun e => ha ⟨y, hy, e⟩
    rw [this, List.nil_append, List.append_nil]

theorem srt_app {a b : List α} : srt cls (a ++ b) ↔ srt cls a ∧ srt cls b ∧ ∀ x ∈ a, ∀ y ∈ b, cls x ≤ cls y := List.pairwise_append
theorem srt_cons {x : α} {b : List α} : srt cls (x :: b) ↔ (∀ y ∈ b, cls x ≤ cls y) ∧ srt cls b := List.pairwise_cons
theorem srt_nil : srt cls ([] : List α) := List.Pairwise.nil
theorem srt_one (x : α) : srt cls [x] := List.pairwise_singleton _ _

/-- One arrangement alone is sorted. -/
theorem uniq : ∀ (r s : List α), srt cls r → srt cls s → (∀ k, r.filter (fun x => cls x == k) = s.filter (fun x => cls x == k)) → r = s
  | [], s, _, _, h => by
    cases s with
    | nil => rfl
    | cons y s =>
      have := h (cls y)
      rw [List.filter_nil, List.filter_cons, if_pos (by simp)] at this
      exact absurd this (by simp)
  | x :: r, s, hr, hs, h => by
    cases s with
    | nil =>
      have := h (cls x)
      rw [List.filter_nil, List.filter_cons, if_pos (by simp)] at this
      exact absurd this (by simp)
    | cons y s =>
      rw [srt_cons] at hr hs
      have mem : ∀ {a b : List α} {z : α}, (∀ k, a.filter (fun x => cls x == k) = b.filter (fun x => cls x == k)) → z ∈ a → z ∈ b := fun {a b z} h hz => by
        have : z ∈ a.filter (fun x => cls x == cls z) := List.mem_filter.2 ⟨hz, by simp⟩
        rw [h] at this
        exact (List.mem_filter.1 this).1
      have h1 : cls x ≤ cls y := by
        rcases List.mem_cons.1 (mem (fun k => (h k).symm) (List.mem_cons_self (a := y) (l := s))) with e | e
        · rw [e]; exact Nat.le_refl _
        · exact hr.1 y e
      have h2 : cls y ≤ cls x := by
        rcases List.mem_cons.1 (mem h (List.mem_cons_self (a := x) (l := r))) with e | e
        · rw [e]; exact Nat.le_refl _
        · exact hs.1 x e
      have e : cls x = cls y := Nat.le_antisymm h1 h2
      have hx := h (cls x)
      rw [List.filter_cons, List.filter_cons, if_pos (by simp), if_pos (by simp [e])] at hx
      injection hx with hxy ht
      subst hxy
      congr 1
      refine uniq r s hr.2 hs.2 fun k => ?_
      by_cases hk : cls x = k
      · rw [← hk]; exact ht
      · have := h k
        rw [List.filter_cons, List.filter_cons, if_neg (by simpa using hk), if_neg (by simpa using hk)] at this
        exact this

/-- One that is put between: behind those that are not above it, ahead of those that are. -/
theorem put_in {a b : List α} {x : α} (hs : srt cls (a ++ b)) (h2 : ∀ y ∈ b, cls x < cls y) (h1 : ∀ y ∈ a, cls y ≤ cls x) : srt cls (a ++ x :: b) ∧ Arr cls (a ++ x :: b) (a ++ b ++ [x]) := by
  rw [srt_app] at hs
  refine ⟨srt_app.2 ⟨hs.1, srt_cons.2 ⟨fun y hy => Nat.le_of_lt (h2 y hy), hs.2.1⟩, fun y hy z hz => ?_⟩, ?_⟩
  · rcases List.mem_cons.1 hz with rfl | hz
    · exact h1 y hy
    · exact hs.2.2 y hy z hz
  · have := (Arr.refl cls a).app (arr_swap (cls := cls) (a := b) (b := [x]) fun y hy z hz => by
      rw [List.mem_singleton.1 hz]; have := h2 y hy; omega)
    rw [List.append_assoc]
    exact this
/-- The last one of what is sorted is the greatest. -/
theorem last_most {a : List α} {z : α} (hs : srt cls (a ++ [z])) : ∀ y ∈ a ++ [z], cls y ≤ cls z := by
  intro y hy
  rcases List.mem_append.1 hy with hy | hy
  · exact (srt_app.1 hs).2.2 y hy z (by simp)
  · rw [List.mem_singleton.1 hy]; exact Nat.le_refl _
/-- One ahead of what is sorted goes behind those that are below it. -/
theorem put_first {b c : List α} {x : α} (hs : srt cls (b ++ c)) (h1 : ∀ y ∈ b, cls y < cls x) (h2 : ∀ y ∈ c, cls x ≤ cls y) : srt cls (b ++ x :: c) ∧ Arr cls (b ++ x :: c) ([x] ++ (b ++ c)) := by
  rw [srt_app] at hs
  refine ⟨srt_app.2 ⟨hs.1, srt_cons.2 ⟨h2, hs.2.1⟩, fun y hy z hz => ?_⟩, ?_⟩
  · rcases List.mem_cons.1 hz with rfl | hz
    · exact Nat.le_of_lt (h1 y hy)
    · exact hs.2.2 y hy z hz
  · have := (arr_swap (cls := cls) (a := [x]) (b := b) fun y hy z hz => by
      rw [List.mem_singleton.1 hy]; have := h1 z hz; omega).app (Arr.refl cls c)
    simpa using this

/-- What merging two makes. -/
def Mg (cls : α → Nat) (a b r : List α) : Prop := srt cls r ∧ Arr cls r (a ++ b)
theorem Mg.left_nil {b : List α} (h : srt cls b) : Mg cls [] b b := ⟨h, Arr.refl cls b⟩
theorem Mg.right_nil {a : List α} (h : srt cls a) : Mg cls a [] a := ⟨h, by rw [List.append_nil]; exact Arr.refl cls a⟩
/-- The halves that are merged each make the whole. -/
theorem Mg.halves {a1 a2 b1 b2 r1 r2 : List α} (h1 : ∀ x ∈ a1, ∀ y ∈ b2, cls x ≤ cls y) (h2 : ∀ x ∈ a2, ∀ y ∈ b1, cls y < cls x) (ha : srt cls (a1 ++ a2)) (hb : srt cls (b1 ++ b2))
    (m1 : Mg cls a1 b1 r1) (m2 : Mg cls a2 b2 r2) : Mg cls (a1 ++ a2) (b1 ++ b2) (r1 ++ r2) := by
  rw [srt_app] at ha hb
  refine ⟨srt_app.2 ⟨m1.1, m2.1, fun x hx y hy => ?_⟩, ?_⟩
  · have hx := m1.2.mem.1 hx
    have hy := m2.2.mem.1 hy
    rcases List.mem_append.1 hx with hx | hx <;> rcases List.mem_append.1 hy with hy | hy
    · exact ha.2.2 x hx y hy
    · exact h1 x hx y hy
    · exact Nat.le_of_lt (h2 y hy x hx)
    · exact hb.2.2 x hx y hy
  · refine (m1.2.app m2.2).trans ?_
    have hmid : Arr cls (b1 ++ a2) (a2 ++ b1) := arr_swap fun x hx y hy => by have := h2 x hx y hy; omega
    have := ((Arr.refl cls a1).app hmid).app (Arr.refl cls b2)
    simpa [List.append_assoc] using this

/-- The two ends tell of all. -/
theorem ends_le {a b : List α} {u v : α} (ha : srt cls (a ++ [u])) (hb : srt cls (v :: b)) (h : cls u ≤ cls v) : ∀ x ∈ a ++ [u], ∀ y ∈ v :: b, cls x ≤ cls y := fun x hx y hy => by
  have h1 := last_most ha x hx
  have h2 : cls v ≤ cls y := by
    rcases List.mem_cons.1 hy with rfl | hy
    · exact Nat.le_refl _
    · exact (srt_cons.1 hb).1 y hy
  omega
theorem ends_lt {a b : List α} {u v : α} (hb : srt cls (b ++ [v])) (ha : srt cls (u :: a)) (h : cls v < cls u) : ∀ x ∈ u :: a, ∀ y ∈ b ++ [v], cls y < cls x := fun x hx y hy => by
  have h1 := last_most hb y hy
  have h2 : cls u ≤ cls x := by
    rcases List.mem_cons.1 hx with rfl | hx
    · exact Nat.le_refl _
    · exact (srt_cons.1 ha).1 x hx
  omega

/-- By places: what is sorted rises. -/
theorem srt_get {l : List α} (h : srt cls l) {i j : Nat} (hij : i ≤ j) (hj : j < l.length) : cls (l[i]'(by omega)) ≤ cls l[j] := by
  by_cases e : i = j
  · subst e; exact Nat.le_refl _
  · exact (List.pairwise_iff_getElem.1 h) i j (by omega) hj (by omega)
theorem srt_of_get {l : List α} (h : ∀ i (hi : i + 1 < l.length), cls (l[i]'(by omega)) ≤ cls l[i + 1]) : srt cls l := by
  refine List.pairwise_iff_getElem.2 fun i j hi hj hij => ?_
  have : ∀ d (hd : i + d < l.length), cls l[i] ≤ cls l[i + d] := fun d => by
    induction d with
    | zero => intro _; exact Nat.le_refl _
    | succ d ih => intro hd; exact Nat.le_trans (ih (by omega)) (h (i + d) hd)
  have := this (j - i) (by omega)
  simpa [show i + (j - i) = j from by omega] using this

/-! ### Blocks -/
/-- Each block of bs is sorted, from place t0 * bs on. -/
def blk (cls : α → Nat) (bs t0 : Nat) (l : List α) : Prop := ∀ t, t0 ≤ t → srt cls ((l.drop (t * bs)).take bs)
/-- Each block of bs is sorted, ahead of block t0. -/
def upto (cls : α → Nat) (bs t0 : Nat) (l : List α) : Prop := ∀ t, t < t0 → srt cls ((l.drop (t * bs)).take bs)

theorem drop_take_left {p r : List α} {i n : Nat} (h : i + n ≤ p.length) : ((p ++ r).drop i).take n = (p.drop i).take n := by
  rw [List.drop_append_of_le_length (by omega), List.take_append_of_le_length (by rw [List.length_drop]; omega)]
theorem drop_right {p r : List α} {i : Nat} (h : p.length ≤ i) : (p ++ r).drop i = r.drop (i - p.length) := by
  rw [List.drop_append, List.drop_of_length_le h, List.nil_append]
theorem drop_right2 {p r r' s : List α} {i : Nat} (hl : r.length = r'.length) (h : p.length + r.length ≤ i) : (p ++ r ++ s).drop i = (p ++ r' ++ s).drop i := by
  rw [drop_right (by simp; omega), drop_right (by simp; omega)]
  simp [hl]

/-- A block that was sorted stands behind those that were. -/
theorem upto_step {bs t : Nat} {p r r' s : List α} (h : upto cls bs t (p ++ r ++ s)) (hp : p.length = t * bs) (hr : r'.length = bs ∨ (s = [] ∧ r'.length ≤ bs)) (hs : srt cls r') : upto cls bs (t + 1) (p ++ r' ++ s) := by
  intro k hk
  by_cases e : k < t
  · have := h k e
    have hle : k * bs + bs ≤ p.length := by
      rw [hp]
      have : (k + 1) * bs ≤ t * bs := Nat.mul_le_mul_right bs e
      rw [Nat.succ_mul] at this
      exact this
    rw [List.append_assoc, drop_take_left hle] at this ⊢
    exact this
  · have : k = t := by omega
    subst this
    rw [List.append_assoc, drop_right (by omega), hp, Nat.sub_self, List.drop_zero]
    rcases hr with hr | ⟨rfl, hr⟩
    · rw [List.take_append_of_le_length (by omega), List.take_of_length_le (by omega)]; exact hs
    · rw [List.append_nil, List.take_of_length_le hr]; exact hs
/-- What stands behind is as it was. -/
theorem blk_step {bs t t' : Nat} {p r r' s : List α} (h : blk cls bs t (p ++ r ++ s)) (ht : t ≤ t') (hl : r.length = r'.length) (hp : p.length + r.length ≤ t' * bs) : blk cls bs t' (p ++ r' ++ s) := by
  intro k hk
  have hle : p.length + r.length ≤ k * bs := Nat.le_trans hp (Nat.mul_le_mul_right bs hk)
  rw [← drop_right2 hl hle]
  exact h k (by omega)
theorem blk_of_upto {bs t : Nat} {l : List α} (h : upto cls bs t l) (hl : l.length ≤ t * bs) : blk cls bs 0 l := by
  intro k _
  by_cases e : k < t
  · exact h k e
  · rw [List.drop_of_length_le (Nat.le_trans hl (Nat.mul_le_mul_right bs (by omega)))]
    rw [List.take_nil]; exact srt_nil
theorem blk_all {bs : Nat} {l : List α} (h : blk cls bs 0 l) (hl : l.length ≤ bs) : srt cls l := by
  have := h 0 (Nat.le_refl _)
  rwa [Nat.zero_mul, List.drop_zero, List.take_of_length_le hl] at this

end Go.Proofs.Ythkbjbbffkgpfaa.Stb
