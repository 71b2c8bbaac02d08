/- Marks in their order, plain: over any classes. -/
namespace Go.Proofs.Ythkbjbbffkgpfaa.Ordr
variable (cls : Nat → Nat)

/-- c put behind what is kept (the last one kept comes first): it goes back as far as it must. -/
def ins (c : Nat) : List Nat → List Nat
  | [] => [c]
  | d :: r => if cls c ≠ 0 ∧ cls c < cls d then d :: ins c r else c :: d :: r
/-- What is kept of a list, the last one first. -/
def kept (l acc : List Nat) : List Nat := l.foldl (fun a c => ins cls c a) acc
def ord (l : List Nat) : List Nat := (kept cls l []).reverse
/-- In order, the last one first. -/
def up : List Nat → Prop
  | c :: d :: r => ¬ (cls c ≠ 0 ∧ cls c < cls d) ∧ up (d :: r)
  | _ => True
def isOrd (l : List Nat) : Prop := up cls l.reverse

theorem up_tail {c : Nat} {r : List Nat} (h : up cls (c :: r)) : up cls r := by
  cases r with
  | nil => trivial
  | cons d r => exact h.2
theorem ins_head (c : Nat) (r : List Nat) : ∃ x t, ins cls c r = x :: t := by
  cases r with
  | nil => exact ⟨_, _, rfl⟩
  | cons d r => unfold ins; split <;> exact ⟨_, _, rfl⟩
theorem ins_up (c : Nat) : ∀ r, up cls r → up cls (ins cls c r)
  | [], _ => trivial
  | [d], _ => by
    unfold ins
    split
    · rename_i h
      unfold ins
      exact ⟨by omega, trivial⟩
    · rename_i h; exact ⟨h, trivial⟩
  | d :: e :: r, h => by
    unfold ins
    split
    · rename_i g
      have ih := ins_up c (e :: r) h.2
      unfold ins at ih ⊢
      split
      · rename_i g2
        rw [if_pos g2] at ih
        exact ⟨h.1, ih⟩
      · rename_i g2
        rw [if_neg g2] at ih
        exact ⟨by omega, ih⟩
    · rename_i g; exact ⟨g, h⟩
theorem kept_up (l : List Nat) : ∀ acc, up cls acc → up cls (kept cls l acc) := by
  induction l with
  | nil => exact fun _ h => h
  | cons c l ih => exact fun acc h => ih _ (ins_up cls c acc h)
theorem ord_is (l : List Nat) : isOrd cls (ord cls l) := by
  unfold isOrd ord; rw [List.reverse_reverse]; exact kept_up cls l [] trivial
theorem ins_stay {c : Nat} {r : List Nat} (h : up cls (c :: r)) : ins cls c r = c :: r := by
  cases r with
  | nil => rfl
  | cons d r => unfold ins; rw [if_neg h.1]
theorem kept_app (a b acc : List Nat) : kept cls (a ++ b) acc = kept cls b (kept cls a acc) := by unfold kept; rw [List.foldl_append]
theorem kept_stay : ∀ l acc, up cls (l.reverse ++ acc) → kept cls l acc = l.reverse ++ acc := by
  intro l
  induction l with
  | nil => intro acc _; rfl
  | cons c l ih =>
    intro acc h
    rw [List.reverse_cons, List.append_assoc] at h ⊢
    have h2 : up cls (c :: acc) := by
      clear ih
      revert h
      generalize l.reverse = m
      induction m with
      | nil => exact id
      | cons d m ih => exact fun h => ih (up_tail cls h)
    show kept cls l (ins cls c acc) = _
    rw [ins_stay cls h2]
    exact ih (c :: acc) h
theorem ord_stay {l : List Nat} (h : isOrd cls l) : ord cls l = l := by
  unfold ord isOrd at *
  rw [kept_stay cls l [] (by rw [List.append_nil]; exact h), List.append_nil, List.reverse_reverse]
theorem ord_ord (l : List Nat) : ord cls (ord cls l) = ord cls l := ord_stay cls (ord_is cls l)

theorem ins_perm (c : Nat) : ∀ r, (ins cls c r).Perm (c :: r)
  | [] => List.Perm.refl _
  | d :: r => by
    unfold ins
    split
    · exact ((ins_perm c r).cons d).trans (List.Perm.swap c d r)
    · exact List.Perm.refl _
theorem kept_perm (l : List Nat) : ∀ acc, (kept cls l acc).Perm (l.reverse ++ acc) := by
  induction l with
  | nil => exact fun _ => List.Perm.refl _
  | cons c l ih =>
    intro acc
    rw [List.reverse_cons, List.append_assoc]
    exact (ih (ins cls c acc)).trans ((ins_perm cls c acc).append_left _)
theorem ord_perm (l : List Nat) : (ord cls l).Perm l := by
  unfold ord
  have := kept_perm cls l []
  rw [List.append_nil] at this
  exact ((List.reverse_perm _).trans this).trans (List.reverse_perm _)
theorem ord_len (l : List Nat) : (ord cls l).length = l.length := (ord_perm cls l).length_eq

/-- Those of one class stay in their order. -/
theorem ins_filter (k c : Nat) : ∀ r, (ins cls c r).filter (fun x => cls x == k) = (c :: r).filter (fun x => cls x == k)
  | [] => rfl
  | d :: r => by
    unfold ins
    split
    · rename_i h
      rw [List.filter_cons, ins_filter k c r]
      by_cases e1 : cls d = k
      · have e2 : cls c ≠ k := by omega
        simp [e1, e2]
      · simp [List.filter_cons, e1]
    · rfl
theorem kept_filter (k : Nat) (l : List Nat) : ∀ acc, (kept cls l acc).filter (fun x => cls x == k) = (l.reverse ++ acc).filter (fun x => cls x == k) := by
  induction l with
  | nil => exact fun _ => rfl
  | cons c l ih =>
    intro acc
    show (kept cls l (ins cls c acc)).filter _ = _
    rw [ih, List.filter_append, ins_filter, List.reverse_cons, List.append_assoc, ← List.filter_append]
    rfl
theorem ord_filter (k : Nat) (l : List Nat) : (ord cls l).filter (fun x => cls x == k) = l.filter (fun x => cls x == k) := by
  unfold ord
  rw [List.filter_reverse, kept_filter, List.append_nil, List.filter_reverse, List.reverse_reverse]

/-- A number that is no mark stays where it is, and what is ahead of it is put into order alone. -/
theorem ins_zero {c : Nat} (h : cls c = 0) (r : List Nat) : ins cls c r = c :: r := by
  cases r with
  | nil => rfl
  | cons d r => unfold ins; rw [if_neg (fun g => g.1 h)]
theorem ins_wall {z : Nat} (hz : cls z = 0) (c : Nat) (acc : List Nat) : ∀ r, ins cls c (r ++ z :: acc) = ins cls c (r ++ [z]) ++ acc
  | [] => by
    show ins cls c (z :: acc) = ins cls c [z] ++ acc
    unfold ins
    rw [if_neg (by omega), if_neg (by omega)]; rfl
  | d :: r => by
    show ins cls c (d :: (r ++ z :: acc)) = ins cls c (d :: (r ++ [z])) ++ acc
    unfold ins
    split
    · rw [ins_wall hz c acc r]; rfl
    · simp
theorem ins_last {z : Nat} (hz : cls z = 0) (c : Nat) : ∀ r, ∃ t, ins cls c (r ++ [z]) = t ++ [z]
  | [] => by
    show ∃ t, ins cls c [z] = t ++ [z]
    unfold ins
    rw [if_neg (by omega)]; exact ⟨[c], rfl⟩
  | d :: r => by
    show ∃ t, ins cls c (d :: (r ++ [z])) = t ++ [z]
    unfold ins
    split
    · obtain ⟨t, ht⟩ := ins_last hz c r
      exact ⟨d :: t, by rw [ht]; rfl⟩
    · exact ⟨c :: d :: r, rfl⟩
theorem kept_wall {z : Nat} (hz : cls z = 0) (acc : List Nat) : ∀ l r, kept cls l (r ++ z :: acc) = kept cls l (r ++ [z]) ++ acc := by
  intro l
  induction l with
  | nil => intro r; simp [kept]
  | cons c l ih =>
    intro r
    show kept cls l (ins cls c (r ++ z :: acc)) = kept cls l (ins cls c (r ++ [z])) ++ acc
    obtain ⟨t, ht⟩ := ins_last cls hz c r
    rw [ins_wall cls hz c acc r, ht, List.append_assoc]
    exact ih t
theorem ord_parts (a : List Nat) {b : List Nat} (hb : ∀ z t, b = z :: t → cls z = 0) : ord cls (a ++ b) = ord cls a ++ ord cls b := by
  cases b with
  | nil => rw [List.append_nil]; show _ = _ ++ []; rw [List.append_nil]
  | cons z t =>
    have hz := hb z t rfl
    unfold ord
    rw [kept_app]
    show (kept cls t (ins cls z (kept cls a []))).reverse = _ ++ (kept cls t (ins cls z [])).reverse
    rw [ins_zero cls hz, ins_zero cls hz]
    have := kept_wall cls hz (kept cls a []) t []
    simp only [List.nil_append] at this
    rw [this, List.reverse_append]

theorem ins_go {c d : Nat} (r : List Nat) (h : cls c ≠ 0) (g : cls c < cls d) : ins cls c (d :: r) = d :: ins cls c r := by
  show (if _ then _ else _) = _
  rw [if_pos ⟨h, g⟩]
theorem ins_sit {c d : Nat} (r : List Nat) (g : ¬ cls c < cls d) : ins cls c (d :: r) = c :: d :: r := by
  show (if _ then _ else _) = _
  rw [if_neg (fun h => g h.2)]
/-- Two marks of unlike classes may change places. -/
theorem ins_comm {a b : Nat} (ha : cls a ≠ 0) (hb : cls b ≠ 0) (h : cls a ≠ cls b) : ∀ r, ins cls a (ins cls b r) = ins cls b (ins cls a r)
  | [] => by
    show ins cls a [b] = ins cls b [a]
    by_cases g : cls a < cls b
    · rw [ins_go cls [] ha g, ins_sit cls [] (by omega)]; rfl
    · rw [ins_sit cls [] g, ins_go cls [] hb (by omega)]; rfl
  | d :: r => by
    by_cases g1 : cls a < cls d <;> by_cases g2 : cls b < cls d
    · rw [ins_go cls r ha g1, ins_go cls r hb g2, ins_go cls _ ha g1, ins_go cls _ hb g2, ins_comm ha hb h r]
    · rw [ins_go cls r ha g1, ins_sit cls r g2, ins_go cls _ ha (by omega), ins_go cls r ha g1, ins_sit cls _ g2]
    · rw [ins_sit cls r g1, ins_go cls r hb g2, ins_sit cls _ g1, ins_go cls _ hb (by omega), ins_go cls r hb g2]
    · rw [ins_sit cls r g1, ins_sit cls r g2]
      by_cases g : cls a < cls b
      · rw [ins_go cls _ ha g, ins_sit cls r g1, ins_sit cls _ (by omega)]
      · rw [ins_sit cls _ g, ins_go cls _ hb (by omega), ins_sit cls r g2]
theorem ord_swap (A B : List Nat) {a b : Nat} (ha : cls a ≠ 0) (hb : cls b ≠ 0) (h : cls a ≠ cls b) : ord cls (A ++ a :: b :: B) = ord cls (A ++ b :: a :: B) := by
  unfold ord
  rw [kept_app, kept_app]
  show (kept cls B (ins cls b (ins cls a (kept cls A [])))).reverse = (kept cls B (ins cls a (ins cls b (kept cls A [])))).reverse
  rw [ins_comm cls ha hb h]
/-- A mark may go behind marks of lower classes. -/
theorem ord_past (c : Nat) : ∀ (M A B : List Nat), (∀ m ∈ M, cls m ≠ 0 ∧ cls m < cls c) → ord cls (A ++ c :: (M ++ B)) = ord cls (A ++ (M ++ c :: B))
  | [], _, _, _ => rfl
  | m :: M, A, B, h => by
    have hm := h m (by simp)
    have h1 := ord_swap cls A (M ++ B) (a := c) (b := m) (by omega) hm.1 (by omega)
    show ord cls (A ++ c :: m :: (M ++ B)) = _
    rw [h1]
    have h2 := ord_past c M (A ++ [m]) B (fun x hx => h x (by simp [hx]))
    rw [List.append_assoc, List.append_assoc] at h2
    exact h2
theorem ord_ord_app (a b : List Nat) : ord cls (ord cls a ++ b) = ord cls (a ++ b) := by
  have h := kept_stay cls (ord cls a) [] (by rw [List.append_nil]; exact ord_is cls a)
  unfold ord at *
  rw [kept_app, kept_app, h, List.append_nil, List.reverse_reverse]
theorem isOrd_app_left {a b : List Nat} (h : isOrd cls (a ++ b)) : isOrd cls a := by
  unfold isOrd at *
  rw [List.reverse_append] at h
  revert h
  generalize b.reverse = m
  induction m with
  | nil => exact id
  | cons d m ih => exact fun h => ih (up_tail cls h)
theorem isOrd_last {a : List Nat} {x y : Nat} (h : isOrd cls (a ++ [x, y])) : ¬ (cls y ≠ 0 ∧ cls y < cls x) := by
  unfold isOrd at h
  rw [List.reverse_append] at h
  exact h.1

end Go.Proofs.Ythkbjbbffkgpfaa.Ordr
