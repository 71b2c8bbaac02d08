/- Ord: one text of Ordr Stb Ordq. -/

/- Marks in their order, plain: over any classes. -/
namespace Go.Proofs.YtipemmjbgegmfaaGreatDoor.Ordr
variable (cls : Nat → Nat)

/-- c put behind what is kept (the last one kept comes first): it goes back as far as it must. -/
def ins (c : Nat) : List Nat → List Nat
  | [] => [c]
  | d :: r => if cls c ≠ 0 ∧ cls c < cls d then d :: ins c r else c :: d :: r
/-- What is kept of a list, the last one first. -/
def kept (l acc : List Nat) : List Nat := l.foldl (fun a c => ins cls c a) acc
def ord (l : List Nat) : List Nat := (kept cls l []).reverse
/-- In order, the last one first. -/
def up : List Nat → Prop
  | c :: d :: r => ¬ (cls c ≠ 0 ∧ cls c < cls d) ∧ up (d :: r)
  | _ => True
def isOrd (l : List Nat) : Prop := up cls l.reverse

theorem up_tail {c : Nat} {r : List Nat} (h : up cls (c :: r)) : up cls r := by
  cases r with
  | nil => trivial
  | cons d r => exact h.2
theorem ins_head (c : Nat) (r : List Nat) : ∃ x t, ins cls c r = x :: t := by
  cases r with
  | nil => exact ⟨_, _, rfl⟩
  | cons d r => unfold ins; split <;> exact ⟨_, _, rfl⟩
theorem ins_up (c : Nat) : ∀ r, up cls r → up cls (ins cls c r)
  | [], _ => trivial
  | [d], _ => by
    unfold ins
    split
    · rename_i h
      unfold ins
      exact ⟨by omega, trivial⟩
    · rename_i h; exact ⟨h, trivial⟩
  | d :: e :: r, h => by
    unfold ins
    split
    · rename_i g
      have ih := ins_up c (e :: r) h.2
      unfold ins at ih ⊢
      split
      · rename_i g2
        rw [if_pos g2] at ih
        exact ⟨h.1, ih⟩
      · rename_i g2
        rw [if_neg g2] at ih
        exact ⟨by omega, ih⟩
    · rename_i g; exact ⟨g, h⟩
theorem kept_up (l : List Nat) : ∀ acc, up cls acc → up cls (kept cls l acc) := by
  induction l with
  | nil => exact fun _ h => h
  | cons c l ih => exact fun acc h => ih _ (ins_up cls c acc h)
theorem ord_is (l : List Nat) : isOrd cls (ord cls l) := by
  unfold isOrd ord; rw [List.reverse_reverse]; exact kept_up cls l [] trivial
theorem ins_stay {c : Nat} {r : List Nat} (h : up cls (c :: r)) : ins cls c r = c :: r := by
  cases r with
  | nil => rfl
  | cons d r => unfold ins; rw [if_neg h.1]
theorem kept_app (a b acc : List Nat) : kept cls (a ++ b) acc = kept cls b (kept cls a acc) := by unfold kept; rw [List.foldl_append]
theorem kept_stay : ∀ l acc, up cls (l.reverse ++ acc) → kept cls l acc = l.reverse ++ acc := by
  intro l
  induction l with
  | nil => intro acc _; rfl
  | cons c l ih =>
    intro acc h
    rw [List.reverse_cons, List.append_assoc] at h ⊢
    have h2 : up cls (c :: acc) := by
      clear ih
      revert h
      generalize l.reverse = m
      induction m with
      | nil => exact id
      | cons d m ih => exact fun h => ih (up_tail cls h)
    show kept cls l (ins cls c acc) = _
    rw [ins_stay cls h2]
    exact ih (c :: acc) h
theorem ord_stay {l : List Nat} (h : isOrd cls l) : ord cls l = l := by
  unfold ord isOrd at *
  rw [kept_stay cls l [] (by rw [List.append_nil]; exact h), List.append_nil, List.reverse_reverse]
theorem ord_ord (l : List Nat) : ord cls (ord cls l) = ord cls l := ord_stay cls (ord_is cls l)

theorem ins_perm (c : Nat) : ∀ r, (ins cls c r).Perm (c :: r)
  | [] => List.Perm.refl _
  | d :: r => by
    unfold ins
    split
    · exact ((ins_perm c r).cons d).trans (List.Perm.swap c d r)
    · exact List.Perm.refl _
theorem kept_perm (l : List Nat) : ∀ acc, (kept cls l acc).Perm (l.reverse ++ acc) := by
  induction l with
  | nil => exact fun _ => List.Perm.refl _
  | cons c l ih =>
    intro acc
    rw [List.reverse_cons, List.append_assoc]
    exact (ih (ins cls c acc)).trans ((ins_perm cls c acc).append_left _)
theorem ord_perm (l : List Nat) : (ord cls l).Perm l := by
  unfold ord
  have := kept_perm cls l []
  rw [List.append_nil] at this
  exact ((List.reverse_perm _).trans this).trans (List.reverse_perm _)
theorem ord_len (l : List Nat) : (ord cls l).length = l.length := (ord_perm cls l).length_eq

/-- Those of one class stay in their order. -/
theorem ins_filter (k c : Nat) : ∀ r, (ins cls c r).filter (fun x => cls x == k) = (c :: r).filter (fun x => cls x == k)
  | [] => rfl
  | d :: r => by
    unfold ins
    split
    · rename_i h
      rw [List.filter_cons, ins_filter k c r]
      by_cases e1 : cls d = k
      · have e2 : cls c ≠ k := by omega
        simp [e1, e2]
      · simp [List.filter_cons, e1]
    · rfl
theorem kept_filter (k : Nat) (l : List Nat) : ∀ acc, (kept cls l acc).filter (fun x => cls x == k) = (l.reverse ++ acc).filter (fun x => cls x == k) := by
  induction l with
  | nil => exact fun _ => rfl
  | cons c l ih =>
    intro acc
    show (kept cls l (ins cls c acc)).filter _ = _
    rw [ih, List.filter_append, ins_filter, List.reverse_cons, List.append_assoc, ← List.filter_append]
    rfl
theorem ord_filter (k : Nat) (l : List Nat) : (ord cls l).filter (fun x => cls x == k) = l.filter (fun x => cls x == k) := by
  unfold ord
  rw [List.filter_reverse, kept_filter, List.append_nil, List.filter_reverse, List.reverse_reverse]

/-- A number that is no mark stays where it is, and what is ahead of it is put into order alone. -/
theorem ins_zero {c : Nat} (h : cls c = 0) (r : List Nat) : ins cls c r = c :: r := by
  cases r with
  | nil => rfl
  | cons d r => unfold ins; rw [if_neg (fun g => g.1 h)]
theorem ins_wall {z : Nat} (hz : cls z = 0) (c : Nat) (acc : List Nat) : ∀ r, ins cls c (r ++ z :: acc) = ins cls c (r ++ [z]) ++ acc
  | [] => by
    show ins cls c (z :: acc) = ins cls c [z] ++ acc
    unfold ins
    rw [if_neg (by omega), if_neg (by omega)]; rfl
  | d :: r => by
    show ins cls c (d :: (r ++ z :: acc)) = ins cls c (d :: (r ++ [z])) ++ acc
    unfold ins
    split
    · rw [ins_wall hz c acc r]; rfl
    · simp
theorem ins_last {z : Nat} (hz : cls z = 0) (c : Nat) : ∀ r, ∃ t, ins cls c (r ++ [z]) = t ++ [z]
  | [] => by
    show ∃ t, ins cls c [z] = t ++ [z]
    unfold ins
    rw [if_neg (by omega)]; exact ⟨[c], rfl⟩
  | d :: r => by
    show ∃ t, ins cls c (d :: (r ++ [z])) = t ++ [z]
    unfold ins
    split
    · obtain ⟨t, ht⟩ := ins_last hz c r
      exact ⟨d :: t, by rw [ht]; rfl⟩
    · exact ⟨c :: d :: r, rfl⟩
theorem kept_wall {z : Nat} (hz : cls z = 0) (acc : List Nat) : ∀ l r, kept cls l (r ++ z :: acc) = kept cls l (r ++ [z]) ++ acc := by
  intro l
  induction l with
  | nil => intro r; simp [kept]
  | cons c l ih =>
    intro r
    show kept cls l (ins cls c (r ++ z :: acc)) = kept cls l (ins cls c (r ++ [z])) ++ acc
    obtain ⟨t, ht⟩ := ins_last cls hz c r
    rw [ins_wall cls hz c acc r, ht, List.append_assoc]
    exact ih t
theorem ord_parts (a : List Nat) {b : List Nat} (hb : ∀ z t, b = z :: t → cls z = 0) : ord cls (a ++ b) = ord cls a ++ ord cls b := by
  cases b with
  | nil => rw [List.append_nil]; show _ = _ ++ []; rw [List.append_nil]
  | cons z t =>
    have hz := hb z t rfl
    unfold ord
    rw [kept_app]
    show (kept cls t (ins cls z (kept cls a []))).reverse = _ ++ (kept cls t (ins cls z [])).reverse
    rw [ins_zero cls hz, ins_zero cls hz]
    have := kept_wall cls hz (kept cls a []) t []
    simp only [List.nil_append] at this
    rw [this, List.reverse_append]

theorem ins_go {c d : Nat} (r : List Nat) (h : cls c ≠ 0) (g : cls c < cls d) : ins cls c (d :: r) = d :: ins cls c r := by
  show (if _ then _ else _) = _
  rw [if_pos ⟨h, g⟩]
theorem ins_sit {c d : Nat} (r : List Nat) (g : ¬ cls c < cls d) : ins cls c (d :: r) = c :: d :: r := by
  show (if _ then _ else _) = _
  rw [if_neg (fun h => g h.2)]
/-- Two marks of unlike classes may change places. -/
theorem ins_comm {a b : Nat} (ha : cls a ≠ 0) (hb : cls b ≠ 0) (h : cls a ≠ cls b) : ∀ r, ins cls a (ins cls b r) = ins cls b (ins cls a r)
  | [] => by
    show ins cls a [b] = ins cls b [a]
    by_cases g : cls a < cls b
    · rw [ins_go cls [] ha g, ins_sit cls [] (by omega)]; rfl
    · rw [ins_sit cls [] g, ins_go cls [] hb (by omega)]; rfl
  | d :: r => by
    by_cases g1 : cls a < cls d <;> by_cases g2 : cls b < cls d
    · rw [ins_go cls r ha g1, ins_go cls r hb g2, ins_go cls _ ha g1, ins_go cls _ hb g2, ins_comm ha hb h r]
    · rw [ins_go cls r ha g1, ins_sit cls r g2, ins_go cls _ ha (by omega), ins_go cls r ha g1, ins_sit cls _ g2]
    · rw [ins_sit cls r g1, ins_go cls r hb g2, ins_sit cls _ g1, ins_go cls _ hb (by omega), ins_go cls r hb g2]
    · rw [ins_sit cls r g1, ins_sit cls r g2]
      by_cases g : cls a < cls b
      · rw [ins_go cls _ ha g, ins_sit cls r g1, ins_sit cls _ (by omega)]
      · rw [ins_sit cls _ g, ins_go cls _ hb (by omega), ins_sit cls r g2]
theorem ord_swap (A B : List Nat) {a b : Nat} (ha : cls a ≠ 0) (hb : cls b ≠ 0) (h : cls a ≠ cls b) : ord cls (A ++ a :: b :: B) = ord cls (A ++ b :: a :: B) := by
  unfold ord
  rw [kept_app, kept_app]
  show (kept cls B (ins cls b (ins cls a (kept cls A [])))).reverse = (kept cls B (ins cls a (ins cls b (kept cls A [])))).reverse
  rw [ins_comm cls ha hb h]
/-- A mark may go behind marks of lower classes. -/
theorem ord_past (c : Nat) : ∀ (M A B : List Nat), (∀ m ∈ M, cls m ≠ 0 ∧ cls m < cls c) → ord cls (A ++ c :: (M ++ B)) = ord cls (A ++ (M ++ c :: B))
  | [], _, _, _ => rfl
  | m :: M, A, B, h => by
    have hm := h m (by simp)
    have h1 := ord_swap cls A (M ++ B) (a := c) (b := m) (by omega) hm.1 (by omega)
    show ord cls (A ++ c :: m :: (M ++ B)) = _
    rw [h1]
    have h2 := ord_past c M (A ++ [m]) B (fun x hx => h x (by simp [hx]))
    rw [List.append_assoc, List.append_assoc] at h2
    exact h2
theorem ord_ord_app (a b : List Nat) : ord cls (ord cls a ++ b) = ord cls (a ++ b) := by
  have h := kept_stay cls (ord cls a) [] (by rw [List.append_nil]; exact ord_is cls a)
  unfold ord at *
  rw [kept_app, kept_app, h, List.append_nil, List.reverse_reverse]
theorem isOrd_app_left {a b : List Nat} (h : isOrd cls (a ++ b)) : isOrd cls a := by
  unfold isOrd at *
  rw [List.reverse_append] at h
  revert h
  generalize b.reverse = m
  induction m with
  | nil => exact id
  | cons d m ih => exact fun h => ih (up_tail cls h)
theorem isOrd_last {a : List Nat} {x y : Nat} (h : isOrd cls (a ++ [x, y])) : ¬ (cls y ≠ 0 ∧ cls y < cls x) := by
  unfold isOrd at h
  rw [List.reverse_append] at h
  exact h.1

end Go.Proofs.YtipemmjbgegmfaaGreatDoor.Ordr

/- A stable sort by blocks and symmetric merging, plain: what is sorted, and what each step keeps. -/
namespace Go.Proofs.YtipemmjbgegmfaaGreatDoor.Stb
variable {α : Type} (cls : α → Nat)

def srt (l : List α) : Prop := l.Pairwise fun x y => cls x ≤ cls y
/-- The same ones; those of one class in their order. -/
structure Arr (r l : List α) : Prop where
  keep : ∀ k, r.filter (fun x => cls x == k) = l.filter (fun x => cls x == k)
  perm : r.Perm l

theorem Arr.refl (l : List α) : Arr cls l l := ⟨fun _ => rfl, .refl _⟩
variable {cls}
theorem Arr.trans {a b c : List α} (h : Arr cls a b) (k : Arr cls b c) : Arr cls a c := ⟨fun i => (h.keep i).trans (k.keep i), h.perm.trans k.perm⟩
theorem Arr.symm {a b : List α} (h : Arr cls a b) : Arr cls b a := ⟨fun i => (h.keep i).symm, h.perm.symm⟩
theorem Arr.app {a b c d : List α} (h : Arr cls a b) (k : Arr cls c d) : Arr cls (a ++ c) (b ++ d) := ⟨fun i => by rw [List.filter_append, List.filter_append, h.keep, k.keep], h.perm.append k.perm⟩
theorem Arr.len {a b : List α} (h : Arr cls a b) : a.length = b.length := h.perm.length_eq
theorem Arr.mem {a b : List α} (h : Arr cls a b) {x : α} : x ∈ a ↔ x ∈ b := h.perm.mem_iff

/-- Two that share no class change places. -/
theorem arr_swap {a b : List α} (h : ∀ x ∈ a, ∀ y ∈ b, cls x ≠ cls y) : Arr cls (b ++ a) (a ++ b) := by
  refine ⟨fun k => ?_, List.perm_append_comm⟩
  rw [List.filter_append, List.filter_append]
  by_cases ha : ∃ x ∈ a, cls x = k
  · obtain ⟨x, hx, hk⟩ := ha
    have : b.filter (fun x => cls x == k) = [] := by
      rw [List.filter_eq_nil_iff]
      intro y hy
      rw [beq_iff_eq]
      intro e
      exact h x hx y hy (hk.trans e.symm)
    rw [this, List.nil_append, List.append_nil]
  · have : a.filter (fun x => cls x == k) = [] := by
      rw [List.filter_eq_nil_iff]
      intro y hy
      rw [beq_iff_eq]
      exact fun e => ha ⟨y, hy, e⟩
    rw [this, List.nil_append, List.append_nil]

theorem srt_app {a b : List α} : srt cls (a ++ b) ↔ srt cls a ∧ srt cls b ∧ ∀ x ∈ a, ∀ y ∈ b, cls x ≤ cls y := List.pairwise_append
theorem srt_cons {x : α} {b : List α} : srt cls (x :: b) ↔ (∀ y ∈ b, cls x ≤ cls y) ∧ srt cls b := List.pairwise_cons
theorem srt_nil : srt cls ([] : List α) := List.Pairwise.nil
theorem srt_one (x : α) : srt cls [x] := List.pairwise_singleton _ _

/-- One arrangement alone is sorted. -/
theorem uniq : ∀ (r s : List α), srt cls r → srt cls s → (∀ k, r.filter (fun x => cls x == k) = s.filter (fun x => cls x == k)) → r = s
  | [], s, _, _, h => by
    cases s with
    | nil => rfl
    | cons y s =>
      have := h (cls y)
      rw [List.filter_nil, List.filter_cons, if_pos (by simp)] at this
      exact absurd this (by simp)
  | x :: r, s, hr, hs, h => by
    cases s with
    | nil =>
      have := h (cls x)
      rw [List.filter_nil, List.filter_cons, if_pos (by simp)] at this
      exact absurd this (by simp)
    | cons y s =>
      rw [srt_cons] at hr hs
      have mem : ∀ {a b : List α} {z : α}, (∀ k, a.filter (fun x => cls x == k) = b.filter (fun x => cls x == k)) → z ∈ a → z ∈ b := fun {a b z} h hz => by
        have : z ∈ a.filter (fun x => cls x == cls z) := List.mem_filter.2 ⟨hz, by simp⟩
        rw [h] at this
        exact (List.mem_filter.1 this).1
      have h1 : cls x ≤ cls y := by
        rcases List.mem_cons.1 (mem (fun k => (h k).symm) (List.mem_cons_self (a := y) (l := s))) with e | e
        · rw [e]; exact Nat.le_refl _
        · exact hr.1 y e
      have h2 : cls y ≤ cls x := by
        rcases List.mem_cons.1 (mem h (List.mem_cons_self (a := x) (l := r))) with e | e
        · rw [e]; exact Nat.le_refl _
        · exact hs.1 x e
      have e : cls x = cls y := Nat.le_antisymm h1 h2
      have hx := h (cls x)
      rw [List.filter_cons, List.filter_cons, if_pos (by simp), if_pos (by simp [e])] at hx
      injection hx with hxy ht
      subst hxy
      congr 1
      refine uniq r s hr.2 hs.2 fun k => ?_
      by_cases hk : cls x = k
      · rw [← hk]; exact ht
      · have := h k
        rw [List.filter_cons, List.filter_cons, if_neg (by simpa using hk), if_neg (by simpa using hk)] at this
        exact this

/-- One that is put between: behind those that are not above it, ahead of those that are. -/
theorem put_in {a b : List α} {x : α} (hs : srt cls (a ++ b)) (h2 : ∀ y ∈ b, cls x < cls y) (h1 : ∀ y ∈ a, cls y ≤ cls x) : srt cls (a ++ x :: b) ∧ Arr cls (a ++ x :: b) (a ++ b ++ [x]) := by
  rw [srt_app] at hs
  refine ⟨srt_app.2 ⟨hs.1, srt_cons.2 ⟨fun y hy => Nat.le_of_lt (h2 y hy), hs.2.1⟩, fun y hy z hz => ?_⟩, ?_⟩
  · rcases List.mem_cons.1 hz with rfl | hz
    · exact h1 y hy
    · exact hs.2.2 y hy z hz
  · have := (Arr.refl cls a).app (arr_swap (cls := cls) (a := b) (b := [x]) fun y hy z hz => by
      rw [List.mem_singleton.1 hz]; have := h2 y hy; omega)
    rw [List.append_assoc]
    exact this
/-- The last one of what is sorted is the greatest. -/
theorem last_most {a : List α} {z : α} (hs : srt cls (a ++ [z])) : ∀ y ∈ a ++ [z], cls y ≤ cls z := by
  intro y hy
  rcases List.mem_append.1 hy with hy | hy
  · exact (srt_app.1 hs).2.2 y hy z (by simp)
  · rw [List.mem_singleton.1 hy]; exact Nat.le_refl _
/-- One ahead of what is sorted goes behind those that are below it. -/
theorem put_first {b c : List α} {x : α} (hs : srt cls (b ++ c)) (h1 : ∀ y ∈ b, cls y < cls x) (h2 : ∀ y ∈ c, cls x ≤ cls y) : srt cls (b ++ x :: c) ∧ Arr cls (b ++ x :: c) ([x] ++ (b ++ c)) := by
  rw [srt_app] at hs
  refine ⟨srt_app.2 ⟨hs.1, srt_cons.2 ⟨h2, hs.2.1⟩, fun y hy z hz => ?_⟩, ?_⟩
  · rcases List.mem_cons.1 hz with rfl | hz
    · exact Nat.le_of_lt (h1 y hy)
    · exact hs.2.2 y hy z hz
  · have := (arr_swap (cls := cls) (a := [x]) (b := b) fun y hy z hz => by
      rw [List.mem_singleton.1 hy]; have := h1 z hz; omega).app (Arr.refl cls c)
    simpa using this

/-- What merging two makes. -/
def Mg (cls : α → Nat) (a b r : List α) : Prop := srt cls r ∧ Arr cls r (a ++ b)
theorem Mg.left_nil {b : List α} (h : srt cls b) : Mg cls [] b b := ⟨h, Arr.refl cls b⟩
theorem Mg.right_nil {a : List α} (h : srt cls a) : Mg cls a [] a := ⟨h, by rw [List.append_nil]; exact Arr.refl cls a⟩
/-- The halves that are merged each make the whole. -/
theorem Mg.halves {a1 a2 b1 b2 r1 r2 : List α} (h1 : ∀ x ∈ a1, ∀ y ∈ b2, cls x ≤ cls y) (h2 : ∀ x ∈ a2, ∀ y ∈ b1, cls y < cls x) (ha : srt cls (a1 ++ a2)) (hb : srt cls (b1 ++ b2))
    (m1 : Mg cls a1 b1 r1) (m2 : Mg cls a2 b2 r2) : Mg cls (a1 ++ a2) (b1 ++ b2) (r1 ++ r2) := by
  rw [srt_app] at ha hb
  refine ⟨srt_app.2 ⟨m1.1, m2.1, fun x hx y hy => ?_⟩, ?_⟩
  · have hx := m1.2.mem.1 hx
    have hy := m2.2.mem.1 hy
    rcases List.mem_append.1 hx with hx | hx <;> rcases List.mem_append.1 hy with hy | hy
    · exact ha.2.2 x hx y hy
    · exact h1 x hx y hy
    · exact Nat.le_of_lt (h2 y hy x hx)
    · exact hb.2.2 x hx y hy
  · refine (m1.2.app m2.2).trans ?_
    have hmid : Arr cls (b1 ++ a2) (a2 ++ b1) := arr_swap fun x hx y hy => by have := h2 x hx y hy; omega
    have := ((Arr.refl cls a1).app hmid).app (Arr.refl cls b2)
    simpa [List.append_assoc] using this

/-- The two ends tell of all. -/
theorem ends_le {a b : List α} {u v : α} (ha : srt cls (a ++ [u])) (hb : srt cls (v :: b)) (h : cls u ≤ cls v) : ∀ x ∈ a ++ [u], ∀ y ∈ v :: b, cls x ≤ cls y := fun x hx y hy => by
  have h1 := last_most ha x hx
  have h2 : cls v ≤ cls y := by
    rcases List.mem_cons.1 hy with rfl | hy
    · exact Nat.le_refl _
    · exact (srt_cons.1 hb).1 y hy
  omega
theorem ends_lt {a b : List α} {u v : α} (hb : srt cls (b ++ [v])) (ha : srt cls (u :: a)) (h : cls v < cls u) : ∀ x ∈ u :: a, ∀ y ∈ b ++ [v], cls y < cls x := fun x hx y hy => by
  have h1 := last_most hb y hy
  have h2 : cls u ≤ cls x := by
    rcases List.mem_cons.1 hx with rfl | hx
    · exact Nat.le_refl _
    · exact (srt_cons.1 ha).1 x hx
  omega

/-- By places: what is sorted rises. -/
theorem srt_get {l : List α} (h : srt cls l) {i j : Nat} (hij : i ≤ j) (hj : j < l.length) : cls (l[i]'(by omega)) ≤ cls l[j] := by
  by_cases e : i = j
  · subst e; exact Nat.le_refl _
  · exact (List.pairwise_iff_getElem.1 h) i j (by omega) hj (by omega)
theorem srt_of_get {l : List α} (h : ∀ i (hi : i + 1 < l.length), cls (l[i]'(by omega)) ≤ cls l[i + 1]) : srt cls l := by
  refine List.pairwise_iff_getElem.2 fun i j hi hj hij => ?_
  have : ∀ d (hd : i + d < l.length), cls l[i] ≤ cls l[i + d] := fun d => by
    induction d with
    | zero => intro _; exact Nat.le_refl _
    | succ d ih => intro hd; exact Nat.le_trans (ih (by omega)) (h (i + d) hd)
  have := this (j - i) (by omega)
  simpa [show i + (j - i) = j from by omega] using this

/-! ### Blocks -/
/-- Each block of bs is sorted, from place t0 * bs on. -/
def blk (cls : α → Nat) (bs t0 : Nat) (l : List α) : Prop := ∀ t, t0 ≤ t → srt cls ((l.drop (t * bs)).take bs)
/-- Each block of bs is sorted, ahead of block t0. -/
def upto (cls : α → Nat) (bs t0 : Nat) (l : List α) : Prop := ∀ t, t < t0 → srt cls ((l.drop (t * bs)).take bs)

theorem drop_take_left {p r : List α} {i n : Nat} (h : i + n ≤ p.length) : ((p ++ r).drop i).take n = (p.drop i).take n := by
  rw [List.drop_append_of_le_length (by omega), List.take_append_of_le_length (by rw [List.length_drop]; omega)]
theorem drop_right {p r : List α} {i : Nat} (h : p.length ≤ i) : (p ++ r).drop i = r.drop (i - p.length) := by
  rw [List.drop_append, List.drop_of_length_le h, List.nil_append]
theorem drop_right2 {p r r' s : List α} {i : Nat} (hl : r.length = r'.length) (h : p.length + r.length ≤ i) : (p ++ r ++ s).drop i = (p ++ r' ++ s).drop i := by
  rw [drop_right (by simp; omega), drop_right (by simp; omega)]
  simp [hl]

/-- A block that was sorted stands behind those that were. -/
theorem upto_step {bs t : Nat} {p r r' s : List α} (h : upto cls bs t (p ++ r ++ s)) (hp : p.length = t * bs) (hr : r'.length = bs ∨ (s = [] ∧ r'.length ≤ bs)) (hs : srt cls r') : upto cls bs (t + 1) (p ++ r' ++ s) := by
  intro k hk
  by_cases e : k < t
  · have := h k e
    have hle : k * bs + bs ≤ p.length := by
      rw [hp]
      have : (k + 1) * bs ≤ t * bs := Nat.mul_le_mul_right bs e
      rw [Nat.succ_mul] at this
      exact this
    rw [List.append_assoc, drop_take_left hle] at this ⊢
    exact this
  · have : k = t := by omega
    subst this
    rw [List.append_assoc, drop_right (by omega), hp, Nat.sub_self, List.drop_zero]
    rcases hr with hr | ⟨rfl, hr⟩
    · rw [List.take_append_of_le_length (by omega), List.take_of_length_le (by omega)]; exact hs
    · rw [List.append_nil, List.take_of_length_le hr]; exact hs
/-- What stands behind is as it was. -/
theorem blk_step {bs t t' : Nat} {p r r' s : List α} (h : blk cls bs t (p ++ r ++ s)) (ht : t ≤ t') (hl : r.length = r'.length) (hp : p.length + r.length ≤ t' * bs) : blk cls bs t' (p ++ r' ++ s) := by
  intro k hk
  have hle : p.length + r.length ≤ k * bs := Nat.le_trans hp (Nat.mul_le_mul_right bs hk)
  rw [← drop_right2 hl hle]
  exact h k (by omega)
theorem blk_of_upto {bs t : Nat} {l : List α} (h : upto cls bs t l) (hl : l.length ≤ t * bs) : blk cls bs 0 l := by
  intro k _
  by_cases e : k < t
  · exact h k e
  · rw [List.drop_of_length_le (Nat.le_trans hl (Nat.mul_le_mul_right bs (by omega)))]
    rw [List.take_nil]; exact srt_nil
theorem blk_all {bs : Nat} {l : List α} (h : blk cls bs 0 l) (hl : l.length ≤ bs) : srt cls l := by
  have := h 0 (Nat.le_refl _)
  rwa [Nat.zero_mul, List.drop_zero, List.take_of_length_le hl] at this

end Go.Proofs.YtipemmjbgegmfaaGreatDoor.Stb

/- Marks in their order, plain: more: where the noughts stand; rows of marks; whether a list is in order, as a Bool. -/
namespace Go.Proofs.YtipemmjbgegmfaaGreatDoor.Ordr
open Go.Proofs.YtipemmjbgegmfaaGreatDoor.Stb
variable (cls : Nat → Nat)

theorem ins_zeros (c : Nat) : ∀ r, (ins cls c r).map (fun x => cls x == 0) = (c :: r).map (fun x => cls x == 0)
  | [] => rfl
  | d :: r => by
    unfold ins
    split
    · rename_i h
      have h1 : (cls c == 0) = false := by rw [beq_eq_false_iff_ne]; exact h.1
      have h2 : (cls d == 0) = false := by rw [beq_eq_false_iff_ne]; omega
      rw [List.map_cons, ins_zeros c r]
      simp [h1, h2]
    · rfl
theorem kept_zeros (l : List Nat) : ∀ acc, (kept cls l acc).map (fun x => cls x == 0) = (l.reverse ++ acc).map (fun x => cls x == 0) := by
  induction l with
  | nil => intro acc; rfl
  | cons c l ih =>
    intro acc
    show (kept cls l (ins cls c acc)).map _ = _
    rw [ih, List.map_append, ins_zeros, ← List.map_append]
    simp
theorem ord_zeros (l : List Nat) : (ord cls l).map (fun x => cls x == 0) = l.map (fun x => cls x == 0) := by
  unfold ord
  rw [List.map_reverse, kept_zeros, List.append_nil, List.map_reverse, List.reverse_reverse]

/-- Those that are no marks stay where they are. -/
theorem ord_at {l : List Nat} {i : Nat} (h : i < l.length) (hz : cls l[i] = 0 ∨ cls ((ord cls l)[i]'(by rw [ord_len]; exact h)) = 0) : (ord cls l)[i]'(by rw [ord_len]; exact h) = l[i] := by
  have hz2 : cls l[i] = 0 := by
    rcases hz with hz | hz
    · exact hz
    · have hm := ord_zeros cls l
      have h1 : ((ord cls l).map (fun x => cls x == 0))[i]? = (l.map (fun x => cls x == 0))[i]? := by rw [hm]
      rw [List.getElem?_map, List.getElem?_map, List.getElem?_eq_getElem h, List.getElem?_eq_getElem (by rw [ord_len]; exact h)] at h1
      simp only [Option.map_some, Option.some.injEq] at h1
      rw [hz] at h1
      simpa using h1.symm
  have hl : l = l.take i ++ l[i] :: l.drop (i + 1) := by rw [← List.drop_eq_getElem_cons h, List.take_append_drop]
  have hp := ord_parts cls (l.take i) (b := l[i] :: l.drop (i + 1)) (fun z t e => by injection e with e1 _; rw [← e1]; exact hz2)
  rw [← hl] at hp
  obtain ⟨t, ht⟩ : ∃ t, ord cls (l[i] :: l.drop (i + 1)) = l[i] :: t := by
    unfold ord
    have hk : kept cls (l[i] :: l.drop (i + 1)) [] = kept cls (l.drop (i + 1)) ([] ++ [l[i]]) := rfl
    rw [hk]
    have : ∀ (m r : List Nat), ∃ t, kept cls m (r ++ [l[i]]) = t ++ [l[i]] := fun m => by
      induction m with
      | nil => intro r; exact ⟨r, rfl⟩
      | cons c m ih =>
        intro r
        obtain ⟨t, e⟩ := ins_last cls hz2 c r
        show ∃ t, kept cls m (ins cls c (r ++ [l[i]])) = _
        rw [e]
        exact ih t
    obtain ⟨t, e⟩ := this (l.drop (i + 1)) []
    exact ⟨t.reverse, by rw [e]; simp⟩
  rw [ht] at hp
  have hlen : (ord cls (l.take i)).length = i := by rw [ord_len, List.length_take]; omega
  have h2 : (ord cls l)[i]? = some l[i] := by
    rw [hp, List.getElem?_append_right (by omega), hlen, Nat.sub_self]; rfl
  rw [List.getElem?_eq_getElem (by rw [ord_len]; exact h)] at h2
  exact Option.some.inj h2

theorem up_down : ∀ r, (∀ x ∈ r, cls x ≠ 0) → up cls r → r.Pairwise (fun x y => cls y ≤ cls x)
  | [], _, _ => List.Pairwise.nil
  | [c], _, _ => List.pairwise_singleton _ _
  | c :: d :: r, hz, h => by
    have ih := up_down (d :: r) (fun x hx => hz x (List.mem_cons_of_mem _ hx)) h.2
    have hcd : cls d ≤ cls c := by
      have := hz c (by simp)
      have := h.1
      omega
    refine List.pairwise_cons.2 ⟨fun y hy => ?_, ih⟩
    rcases List.mem_cons.1 hy with rfl | hy
    · exact hcd
    · have := (List.pairwise_cons.1 ih).1 y hy
      omega
theorem isOrd_srt {l : List Nat} (hz : ∀ x ∈ l, cls x ≠ 0) (h : isOrd cls l) : srt cls l := by
  have := up_down cls l.reverse (fun x hx => hz x (List.mem_reverse.1 hx)) h
  rwa [List.pairwise_reverse] at this
/-- A row of marks that is sorted as it should be is the one in order. -/
theorem ord_row {l r : List Nat} (hz : ∀ x ∈ l, cls x ≠ 0) (hs : srt cls r) (ha : Arr cls r l) : r = ord cls l := by
  refine uniq r (ord cls l) hs (isOrd_srt cls (fun x hx => hz x ((ord_perm cls l).mem_iff.1 hx)) (ord_is cls l)) fun k => ?_
  rw [ha.keep, ord_filter]
/-- A list whose first is no mark, or that has none. -/
theorem ord_zero_cons {z : Nat} (_ : cls z = 0) (b : List Nat) (hb : ∀ y t, b = y :: t → cls y = 0) : ord cls (z :: b) = z :: ord cls b := by
  have := ord_parts cls [z] (b := b) hb
  simpa [ord, kept, ins] using this

/-! ### As a Bool -/
def upB : List Nat → Bool
  | c :: d :: r => (cls c == 0 || decide (cls d ≤ cls c)) && upB (d :: r)
  | _ => true
def ordB (l : List Nat) : Bool := upB cls l.reverse
theorem upB_iff : ∀ r, upB cls r = true ↔ up cls r
  | [] => by simp [upB, up]
  | [c] => by simp [upB, up]
  | c :: d :: r => by
    unfold upB up
    rw [Bool.and_eq_true, upB_iff (d :: r), Bool.or_eq_true, beq_iff_eq, decide_eq_true_eq]
    constructor
    · rintro ⟨h, k⟩; exact ⟨by omega, k⟩
    · rintro ⟨h, k⟩; exact ⟨by omega, k⟩
theorem ordB_iff (l : List Nat) : ordB cls l = true ↔ isOrd cls l := upB_iff cls _
theorem ordB_nil : ordB cls [] = true := rfl
theorem ordB_one (c : Nat) : ordB cls [c] = true := rfl
theorem ordB_step {l : List Nat} {i : Nat} (h : i + 1 < l.length) : ordB cls (l.take (i + 2)) = ((cls l[i + 1] == 0 || decide (cls (l[i]'(by omega)) ≤ cls l[i + 1])) && ordB cls (l.take (i + 1))) := by
  unfold ordB
  rw [List.take_succ_eq_append_getElem h, List.take_succ_eq_append_getElem (show i < l.length by omega)]
  simp only [List.reverse_append, List.reverse_cons, List.reverse_nil, List.nil_append, List.cons_append]
  rfl
theorem ordB_left {a b : List Nat} (h : ordB cls (a ++ b) = true) : ordB cls a = true := (ordB_iff cls a).2 (isOrd_app_left cls ((ordB_iff cls _).1 h))

end Go.Proofs.YtipemmjbgegmfaaGreatDoor.Ordr
