/- Unm: one text of Ucd Uce Ucm Ucn. -/
import Derived.Test.YtipemmjbgegmfaaGreatDoorUnl

/- What the tables say of one another. -/
namespace Go.Proofs.YtipemmjbgegmfaaGreatDoor
open Go.RowKit

/-- A number worked out ahead of its use. -/
def force {α : Type} (n : Nat) (k : Nat → α) : α := match n with
  | 0 => k 0
  | m + 1 => k (m + 1)
theorem force_eq {α : Type} (n : Nat) (k : Nat → α) : force n k = k n := by cases n <;> rfl

def f5 (o : Nat) (l : List UInt8) : Nat := num ((l.drop o).take 5)
theorem f5_fld (l : List UInt8) (size i o : Nat) : f5 o (l.drop (i * size)) = fld l size i o 5 := by unfold f5 fld; rw [List.drop_drop]
def isC (l : List UInt8) : Bool := match l.drop 15 with
  | b :: _ => Nat.beq b.toNat 99
  | [] => false
theorem isC_iff (l : List UInt8) (i : Nat) : isC (l.drop (i * 16)) = true ↔ l[i * 16 + 15]? = some 99 := by
  unfold isC
  rw [List.drop_drop]
  by_cases h : i * 16 + 15 < l.length
  · rw [List.drop_eq_getElem_cons h, List.getElem?_eq_getElem h]
    simp only [Nat.beq_eq, Option.some.injEq]
    constructor
    · intro e; exact UInt8.toNat_inj.1 e
    · rintro e; rw [e]; rfl
  · rw [List.drop_eq_nil_of_le (by omega), List.getElem?_eq_none (by omega)]
    simp

def rowsK (p : List UInt8 → Bool) (f : List UInt8 → Nat) (size : Nat) : Nat → List UInt8 → (List Nat → Bool) → Bool
  | 0, _, k => k []
  | n + 1, l, k => bif p l then force (f l) fun x => rowsK p f size n (l.drop size) fun r => k (x :: r) else rowsK p f size n (l.drop size) k
theorem rowsK_eq (p : List UInt8 → Bool) (f : List UInt8 → Nat) (size : Nat) : ∀ (n : Nat) (l : List UInt8) (k : List Nat → Bool),
    ∃ L : List Nat, rowsK p f size n l k = k L ∧ ∀ x, x ∈ L ↔ ∃ i, i < n ∧ p (l.drop (i * size)) = true ∧ f (l.drop (i * size)) = x
  | 0, l, k => ⟨[], rfl, fun x => by simp⟩
  | n + 1, l, k => by
    unfold rowsK
    have hsplit : ∀ (P : List UInt8 → Prop), (∃ i, i < n + 1 ∧ P (l.drop (i * size))) ↔ P l ∨ ∃ i, i < n ∧ P ((l.drop size).drop (i * size)) := fun P => by
      constructor
      · rintro ⟨i, hi, h⟩
        cases i with
        | zero => left; simpa using h
        | succ i => right; exact ⟨i, by omega, by rwa [List.drop_drop, Nat.add_comm size, ← Nat.succ_mul]⟩
      · rintro (h | ⟨i, hi, h⟩)
        · exact ⟨0, by omega, by simpa using h⟩
        · exact ⟨i + 1, by omega, by rwa [List.drop_drop, Nat.add_comm size, ← Nat.succ_mul] at h⟩
    cases hp : p l with
    | true =>
      obtain ⟨L, h1, h2⟩ := rowsK_eq p f size n (l.drop size) (fun r => k (f l :: r))
      refine ⟨f l :: L, by rw [cond_true, force_eq, h1], fun x => ?_⟩
      rw [hsplit (fun l => p l = true ∧ f l = x), List.mem_cons, h2 x, hp]
      constructor
      · rintro (h | h)
        · exact .inl ⟨rfl, h.symm⟩
        · exact .inr h
      · rintro (h | h)
        · exact .inl h.2.symm
        · exact .inr h
    | false =>
      obtain ⟨L, h1, h2⟩ := rowsK_eq p f size n (l.drop size) k
      refine ⟨L, by rw [cond_false, h1], fun x => ?_⟩
      rw [hsplit (fun l => p l = true ∧ f l = x), h2 x, hp]
      constructor
      · exact .inr
      · rintro (h | h)
        · exact absurd h.1 (by decide)
        · exact h

/-- A tree of numbers: all that is asked is what it finds. -/
inductive Tr where
  | leaf : Tr
  | node (l : Tr) (v : Nat) (r : Tr) : Tr
def Tr.has (x : Nat) : Tr → Prop
  | .leaf => False
  | .node l v r => x = v ∨ l.has x ∨ r.has x
def Tr.find (x : Nat) : Tr → Bool
  | .leaf => false
  | .node l v r => bif Nat.beq x v then true else bif Nat.blt x v then l.find x else r.find x
theorem Tr.find_has (x : Nat) : ∀ t : Tr, t.find x = true → t.has x
  | .leaf, h => Bool.noConfusion h
  | .node l v r, h => by
    unfold Tr.find at h
    cases h1 : Nat.beq x v with
    | true => exact .inl (Nat.eq_of_beq_eq_true h1)
    | false =>
      rw [h1, cond_false] at h
      cases h2 : Nat.blt x v with
      | true => rw [h2, cond_true] at h; exact .inr (.inl (Tr.find_has x l h))
      | false => rw [h2, cond_false] at h; exact .inr (.inr (Tr.find_has x r h))
def treeK : Nat → List Nat → (Tr → List Nat → Bool) → Bool
  | 0, L, k => k .leaf L
  | d + 1, L, k => treeK d L fun l L1 => match L1 with
    | [] => k l []
    | v :: L2 => treeK d L2 fun r L3 => k (.node l v r) L3
theorem treeK_eq : ∀ (d : Nat) (L : List Nat) (k : Tr → List Nat → Bool),
    ∃ (t : Tr) (L' : List Nat), treeK d L k = k t L' ∧ (∀ v, t.has v → v ∈ L) ∧ (∀ v, v ∈ L' → v ∈ L)
  | 0, L, k => ⟨.leaf, L, rfl, fun v h => absurd h id, fun v h => h⟩
  | d + 1, L, k => by
    unfold treeK
    obtain ⟨l, L1, h1, h2, h3⟩ := treeK_eq d L (fun l L1 => match L1 with
      | [] => k l []
      | v :: L2 => treeK d L2 fun r L3 => k (.node l v r) L3)
    rw [h1]
    cases L1 with
    | nil => exact ⟨l, [], rfl, h2, fun v h => absurd h (by simp)⟩
    | cons v L2 =>
      obtain ⟨r, L3, g1, g2, g3⟩ := treeK_eq d L2 (fun r L3 => k (.node l v r) L3)
      refine ⟨.node l v r, L3, g1, fun x hx => ?_, fun x hx => h3 x (List.mem_cons_of_mem _ (g3 x hx))⟩
      rcases hx with rfl | hx | hx
      · exact h3 _ (List.mem_cons_self ..)
      · exact h2 x hx
      · exact h3 x (List.mem_cons_of_mem _ (g2 x hx))

/-- A test of each row. -/
def allRows (p : List UInt8 → Bool) (size : Nat) : Nat → List UInt8 → Bool
  | 0, _ => true
  | n + 1, l => bif p l then allRows p size n (l.drop size) else false
theorem allRows_at (p : List UInt8 → Bool) (size : Nat) : ∀ (n : Nat) (l : List UInt8) (i : Nat), allRows p size n l = true → i < n → p (l.drop (i * size)) = true
  | 0, _, _, _, h => absurd h (Nat.not_lt_zero _)
  | n + 1, l, i, h, hi => by
    unfold allRows at h
    cases hp : p l with
    | false => rw [hp] at h; exact Bool.noConfusion h
    | true =>
      rw [hp, cond_true] at h
      cases i with
      | zero => simpa using hp
      | succ i =>
        have := allRows_at p size n (l.drop size) i h (by omega)
        rwa [List.drop_drop, Nat.add_comm size, ← Nat.succ_mul] at this

def trip (a b c : Nat) : Nat := (a * 33554432 + b) * 33554432 + c
theorem trip_inj {a b c a' b' c' : Nat} (h1 : b < 33554432) (h2 : c < 33554432) (h3 : b' < 33554432) (h4 : c' < 33554432) (h : trip a b c = trip a' b' c') : a = a' ∧ b = b' ∧ c = c' := by
  unfold trip at h
  omega
theorem pairs_chk : rowsK isC (fun l => trip (f5 0 l) (f5 5 l) (f5 10 l)) 16 2061 decS.data.toList (fun D => treeK 10 D fun t _ => allRows (fun l => force (trip (f5 10 l) (f5 0 l) (f5 5 l)) (fun x => t.find x)) 15 941 parS.data.toList) = true := by kernel_rfl
theorem comps_chk : rowsK (fun _ => true) (fun l => trip (f5 0 l) (f5 5 l) (f5 10 l)) 15 941 parS.data.toList (fun D => treeK 10 D fun t _ => allRows (fun l => bif isC l then bif Nat.beq (f5 10 l) 0 then false else force (trip (f5 5 l) (f5 10 l) (f5 0 l)) (fun x => t.find x) else true) 16 2061 decS.data.toList) = true := by kernel_rfl

end Go.Proofs.YtipemmjbgegmfaaGreatDoor

/- Pairs and what is composed again: each is the other. -/
namespace Go.Proofs.YtipemmjbgegmfaaGreatDoor
open Go.RowKit

theorem row_of_key {j x : Nat} (hj : j < 2061) (h : key decL 16 j = x) : rowOf x = j + 1 := by
  have hr : rank decL 16 x 2061 = j + 1 := by
    refine last_uniq (rank_last dec_rising x) ⟨hj, fun _ => by rw [Nat.add_sub_cancel]; exact Nat.le_of_eq h, fun i h1 h2 => ?_⟩
    have := key_lt dec_rising (show j < i by omega) h2
    unfold decL at h
    omega
  unfold rowOf
  rw [hr, Nat.add_sub_cancel, if_neg (by rintro (h1 | h1); · omega
                                         · exact h1 h)]
theorem row_key {c k : Nat} (h : rowOf c = k + 1) : k < 2061 ∧ key decL 16 k = c := by
  have hle := rowOf_le c
  refine ⟨by omega, ?_⟩
  unfold rowOf at h
  split at h
  · omega
  · rename_i hn
    rw [h, Nat.add_sub_cancel] at hn
    exact Decidable.byContradiction fun hk => hn (.inr hk)
theorem row_dec {c k : Nat} (h : rowOf c = k + 1) : decA c = fld decL 16 k 5 5 ∧ decB c = fld decL 16 k 10 5 ∧ cmpOf c = decide (decL[k * 16 + 15]? = some 99) := by
  unfold decA decB cmpOf
  rw [h, Nat.add_sub_cancel, if_neg (Nat.succ_ne_zero k), if_neg (Nat.succ_ne_zero k)]
  simp

theorem pair_back {a b x : Nat} (h : PairP parL a b x true) : rowOf x ≠ 0 ∧ decA x = a ∧ decB x = b ∧ cmpOf x = true ∧ secOf b = true := by
  rcases h with ⟨_, i, hi, h1, h2, h3⟩ | ⟨h, _⟩
  · have hc := pairs_chk
    obtain ⟨L, e1, e2⟩ := rowsK_eq isC (fun l => trip (f5 0 l) (f5 5 l) (f5 10 l)) 16 2061 decS.data.toList (fun D => treeK 10 D fun t _ => allRows (fun l => force (trip (f5 10 l) (f5 0 l) (f5 5 l)) (fun x => t.find x)) 15 941 parS.data.toList)
    rw [e1] at hc
    obtain ⟨t, L', g1, g2, _⟩ := treeK_eq 10 L (fun t _ => allRows (fun l => force (trip (f5 10 l) (f5 0 l) (f5 5 l)) (fun x => t.find x)) 15 941 parS.data.toList)
    rw [g1] at hc
    have hf := allRows_at _ _ _ _ i hc hi
    rw [force_eq] at hf
    obtain ⟨j, hj, hjc, hje⟩ := (e2 _).1 (g2 _ (Tr.find_has _ _ hf))
    simp only [f5_fld] at hje
    obtain ⟨q1, q2, q3⟩ := trip_inj (fld5_lt ..) (fld5_lt ..) (fld5_lt ..) (fld5_lt ..) hje
    have hjc2 := (isC_iff _ _).1 hjc
    rw [key_fld] at h1
    have hk : key decL 16 j = x := by rw [key_fld, ← h3]; exact q1
    have hr := row_of_key hj hk
    obtain ⟨d1, d2, d3⟩ := row_dec hr
    refine ⟨by omega, ?_, ?_, ?_, ?_⟩
    · rw [d1, ← h1]; exact q2
    · rw [d2, ← h2]; exact q3
    · rw [d3, decide_eq_true_eq]; exact hjc2
    · unfold secOf
      rw [(isSec_iff b).2 ⟨i, hi, h2⟩, Bool.or_true]
  · exact Bool.noConfusion h
theorem cmp_pair {c : Nat} (h : cmpOf c = true) : rowOf c ≠ 0 ∧ PairP parL (decA c) (decB c) c true ∧ decB c ≠ 0 := by
  have hr : rowOf c ≠ 0 := by
    unfold cmpOf at h
    rw [Bool.and_eq_true, decide_eq_true_eq] at h
    exact h.1
  obtain ⟨k, hk⟩ : ∃ k, rowOf c = k + 1 := ⟨rowOf c - 1, by omega⟩
  obtain ⟨hk1, hk2⟩ := row_key hk
  obtain ⟨d1, d2, d3⟩ := row_dec hk
  rw [h] at d3
  have hC : isC (decS.data.toList.drop (k * 16)) = true := (isC_iff _ _).2 (of_decide_eq_true d3.symm)
  have hc := comps_chk
  obtain ⟨L, e1, e2⟩ := rowsK_eq (fun _ => true) (fun l => trip (f5 0 l) (f5 5 l) (f5 10 l)) 15 941 parS.data.toList (fun D => treeK 10 D fun t _ => allRows (fun l => bif isC l then bif Nat.beq (f5 10 l) 0 then false else force (trip (f5 5 l) (f5 10 l) (f5 0 l)) (fun x => t.find x) else true) 16 2061 decS.data.toList)
  rw [e1] at hc
  obtain ⟨t, L', g1, g2, _⟩ := treeK_eq 10 L (fun t _ => allRows (fun l => bif isC l then bif Nat.beq (f5 10 l) 0 then false else force (trip (f5 5 l) (f5 10 l) (f5 0 l)) (fun x => t.find x) else true) 16 2061 decS.data.toList)
  rw [g1] at hc
  have hf := allRows_at _ _ _ _ k hc hk1
  rw [hC, cond_true] at hf
  cases hz : Nat.beq (f5 10 (decS.data.toList.drop (k * 16))) 0 with
  | true => rw [hz] at hf; exact Bool.noConfusion hf
  | false =>
    rw [hz, cond_false, force_eq] at hf
    rw [f5_fld] at hz
    have hz2 : fld decL 16 k 10 5 ≠ 0 := Nat.ne_of_beq_eq_false hz
    obtain ⟨i, hi, _, hie⟩ := (e2 _).1 (g2 _ (Tr.find_has _ _ hf))
    simp only [f5_fld] at hie
    obtain ⟨q1, q2, q3⟩ := trip_inj (fld5_lt ..) (fld5_lt ..) (fld5_lt ..) (fld5_lt ..) hie
    refine ⟨hr, .inl ⟨rfl, i, hi, ?_, ?_, ?_⟩, by rw [d2]; exact hz2⟩
    · rw [d1, key_fld]; exact q1
    · rw [d2]; exact q2
    · rw [← hk2, key_fld]; exact q3

end Go.Proofs.YtipemmjbgegmfaaGreatDoor

/- Sets of characters as numbers: what is decomposed comes to an end; what is composed again does not combine. -/
namespace Go.Proofs.YtipemmjbgegmfaaGreatDoor
open Go.RowKit

def bit (M c : Nat) : Bool := Nat.beq (Nat.land (Nat.shiftRight M c) 1) 1
theorem bit_eq (M c : Nat) : bit M c = M.testBit c := by
  rw [Nat.testBit_eq_decide_div_mod_eq, Bool.eq_iff_iff, decide_eq_true_eq]
  unfold bit
  rw [Nat.beq_eq, show Nat.land (Nat.shiftRight M c) 1 = (M >>> c) &&& 1 from rfl, Nat.and_one_is_mod, Nat.shiftRight_eq_div_pow]
def maskK (g : List UInt8 → Nat) (size : Nat) : Nat → List UInt8 → Nat → (Nat → Bool) → Bool
  | 0, _, M, k => k M
  | n + 1, l, M, k => force (Nat.lor M (g l)) fun M => maskK g size n (l.drop size) M k
theorem maskK_eq (g : List UInt8 → Nat) (size : Nat) (k : Nat → Bool) : ∀ (n : Nat) (l : List UInt8) (M : Nat),
    ∃ M' : Nat, maskK g size n l M k = k M' ∧ ∀ c, bit M' c = true ↔ bit M c = true ∨ ∃ i, i < n ∧ bit (g (l.drop (i * size))) c = true
  | 0, l, M => ⟨M, rfl, fun c => by simp⟩
  | n + 1, l, M => by
    unfold maskK
    rw [force_eq]
    obtain ⟨M', h1, h2⟩ := maskK_eq g size k n (l.drop size) (Nat.lor M (g l))
    refine ⟨M', h1, fun c => ?_⟩
    rw [h2 c]
    have ho : bit (Nat.lor M (g l)) c = true ↔ bit M c = true ∨ bit (g l) c = true := by
      rw [bit_eq, bit_eq, bit_eq, show Nat.lor M (g l) = M ||| g l from rfl, Nat.testBit_or, Bool.or_eq_true]
    rw [ho, or_assoc]
    refine or_congr Iff.rfl ?_
    constructor
    · rintro (h | ⟨i, hi, h⟩)
      · exact ⟨0, by omega, by simpa using h⟩
      · exact ⟨i + 1, by omega, by rwa [List.drop_drop, Nat.add_comm size, ← Nat.succ_mul] at h⟩
    · rintro ⟨i, hi, h⟩
      cases i with
      | zero => left; simpa using h
      | succ i => right; exact ⟨i, by omega, by rwa [List.drop_drop, Nat.add_comm size, ← Nat.succ_mul]⟩
theorem bit_zero (c : Nat) : bit 0 c = false := by rw [bit_eq, Nat.zero_testBit]
theorem bit_one (a c : Nat) : bit (Nat.shiftLeft 1 a) c = true ↔ a = c := by
  rw [bit_eq, show Nat.shiftLeft 1 a = 1 <<< a from rfl, Nat.one_shiftLeft, Nat.testBit_two_pow, decide_eq_true_eq]
theorem bit_range (lo n c : Nat) : bit (Nat.shiftLeft (Nat.sub (Nat.pow 2 n) 1) lo) c = true ↔ lo ≤ c ∧ c < lo + n := by
  rw [bit_eq, show Nat.shiftLeft (Nat.sub (Nat.pow 2 n) 1) lo = (2 ^ n - 1) <<< lo from rfl, Nat.testBit_shiftLeft, Nat.testBit_two_pow_sub_one]
  simp only [Bool.and_eq_true, decide_eq_true_eq]
  omega

def ofKey (l : List UInt8) : Nat := Nat.shiftLeft 1 (f5 0 l)
def ofRange (l : List UInt8) : Nat := Nat.shiftLeft (Nat.sub (Nat.pow 2 (Nat.sub (Nat.succ (f5 5 l)) (f5 0 l))) 1) (f5 0 l)
theorem firsts_chk : maskK ofRange 12 388 clsS.data.toList 0 (fun C => allRows (fun l => bif isC l then bif bit C (f5 5 l) then false else bif bit C (f5 0 l) then false else true else true) 16 2061 decS.data.toList) = true := by kernel_rfl
theorem deep_chk : maskK ofKey 16 2061 decS.data.toList 0 (fun K =>
    maskK (fun l => bif bit K (f5 5 l) then ofKey l else 0) 16 2061 decS.data.toList 0 (fun M =>
      maskK (fun l => bif bit M (f5 5 l) then ofKey l else 0) 16 2061 decS.data.toList 0 (fun N =>
        allRows (fun l => bif bit N (f5 5 l) then false else bif bit K (f5 10 l) then false else true) 16 2061 decS.data.toList))) = true := by kernel_rfl

end Go.Proofs.YtipemmjbgegmfaaGreatDoor

/- What is decomposed comes to an end; what is composed again does not combine. -/
namespace Go.Proofs.YtipemmjbgegmfaaGreatDoor
open Go.RowKit

theorem row_iff (c : Nat) : rowOf c ≠ 0 ↔ ∃ i, i < 2061 ∧ f5 0 (decS.data.toList.drop (i * 16)) = c := by
  constructor
  · intro h
    obtain ⟨k, hk⟩ : ∃ k, rowOf c = k + 1 := ⟨rowOf c - 1, by omega⟩
    obtain ⟨h1, h2⟩ := row_key hk
    exact ⟨k, h1, by rw [f5_fld, ← key_fld]; exact h2⟩
  · rintro ⟨i, hi, h⟩
    rw [f5_fld, ← key_fld] at h
    have := row_of_key hi h
    omega
theorem row_at {c : Nat} (h : rowOf c ≠ 0) : ∃ i, i < 2061 ∧ f5 0 (decS.data.toList.drop (i * 16)) = c ∧ f5 5 (decS.data.toList.drop (i * 16)) = decA c ∧ f5 10 (decS.data.toList.drop (i * 16)) = decB c ∧ isC (decS.data.toList.drop (i * 16)) = cmpOf c := by
  obtain ⟨k, hk⟩ : ∃ k, rowOf c = k + 1 := ⟨rowOf c - 1, by omega⟩
  obtain ⟨h1, h2⟩ := row_key hk
  obtain ⟨d1, d2, d3⟩ := row_dec hk
  refine ⟨k, h1, by rw [f5_fld, ← key_fld]; exact h2, by rw [f5_fld]; exact d1.symm, by rw [f5_fld]; exact d2.symm, ?_⟩
  rw [d3, Bool.eq_iff_iff, isC_iff, decide_eq_true_eq]
  exact Iff.rfl

/-- The first one of what is decomposed is decomposed, and its first one, and no more; the second one is not. -/
theorem deep {c : Nat} (h : rowOf c ≠ 0) : rowOf (decB c) = 0 ∧ (rowOf (decA c) ≠ 0 → rowOf (decA (decA c)) ≠ 0 → rowOf (decA (decA (decA c))) = 0) := by
  have hc := deep_chk
  obtain ⟨K, e1, e2⟩ := maskK_eq ofKey 16 (fun K =>
    maskK (fun l => bif bit K (f5 5 l) then ofKey l else 0) 16 2061 decS.data.toList 0 (fun M =>
      maskK (fun l => bif bit M (f5 5 l) then ofKey l else 0) 16 2061 decS.data.toList 0 (fun N =>
        allRows (fun l => bif bit N (f5 5 l) then false else bif bit K (f5 10 l) then false else true) 16 2061 decS.data.toList))) 2061 decS.data.toList 0
  rw [e1] at hc
  obtain ⟨M, g1, g2⟩ := maskK_eq (fun l => bif bit K (f5 5 l) then ofKey l else 0) 16 (fun M =>
      maskK (fun l => bif bit M (f5 5 l) then ofKey l else 0) 16 2061 decS.data.toList 0 (fun N =>
        allRows (fun l => bif bit N (f5 5 l) then false else bif bit K (f5 10 l) then false else true) 16 2061 decS.data.toList)) 2061 decS.data.toList 0
  rw [g1] at hc
  obtain ⟨N, i1, i2⟩ := maskK_eq (fun l => bif bit M (f5 5 l) then ofKey l else 0) 16 (fun N =>
        allRows (fun l => bif bit N (f5 5 l) then false else bif bit K (f5 10 l) then false else true) 16 2061 decS.data.toList) 2061 decS.data.toList 0
  rw [i1] at hc
  have hK : ∀ x, rowOf x ≠ 0 → bit K x = true := fun x hx => by
    obtain ⟨i, hi, hx1, _⟩ := row_at hx
    exact (e2 x).2 (.inr ⟨i, hi, (bit_one _ _).2 hx1⟩)
  have hM : ∀ x, rowOf x ≠ 0 → rowOf (decA x) ≠ 0 → bit M x = true := fun x hx hy => by
    obtain ⟨i, hi, hx1, hx2, _⟩ := row_at hx
    refine (g2 x).2 (.inr ⟨i, hi, ?_⟩)
    simp only [hx2, hK _ hy, cond_true]
    exact (bit_one _ _).2 hx1
  have hN : ∀ x, rowOf x ≠ 0 → rowOf (decA x) ≠ 0 → rowOf (decA (decA x)) ≠ 0 → bit N x = true := fun x hx hy hz => by
    obtain ⟨i, hi, hx1, hx2, _⟩ := row_at hx
    refine (i2 x).2 (.inr ⟨i, hi, ?_⟩)
    simp only [hx2, hM _ hy hz, cond_true]
    exact (bit_one _ _).2 hx1
  obtain ⟨i, hi, hx1, hx2, hx3, _⟩ := row_at h
  have hf := allRows_at _ _ _ _ i hc hi
  rw [hx2, hx3] at hf
  cases hn : bit N (decA c) with
  | true => rw [hn] at hf; exact Bool.noConfusion hf
  | false =>
    rw [hn, cond_false] at hf
    refine ⟨?_, fun h1 h2 => ?_⟩
    · refine Decidable.byContradiction fun hb => ?_
      rw [hK _ hb] at hf
      exact Bool.noConfusion hf
    · refine Decidable.byContradiction fun hb => ?_
      rw [hN _ h1 h2 hb] at hn
      exact Bool.noConfusion hn

theorem cls_zero {c : Nat} (h : ∀ i, i < 388 → ¬ (f5 0 (clsS.data.toList.drop (i * 12)) ≤ c ∧ c ≤ f5 5 (clsS.data.toList.drop (i * 12)))) : clsOf c = 0 := by
  have hr := rank_last cls_rising c
  unfold clsOf
  obtain ⟨r, hk⟩ : ∃ r, rank clsL 12 c 388 = r := ⟨_, rfl⟩
  unfold clsL at *
  rw [hk] at hr ⊢
  obtain ⟨h1, h2, _⟩ := hr
  by_cases h0 : r = 0
  · rw [if_pos h0]
  · rw [if_neg h0]
    have h3 := h2 (by omega)
    have h4 := h (r - 1) (by omega)
    rw [f5_fld, f5_fld, ← key_fld] at h4
    rw [if_pos (by omega)]
theorem firsts {c : Nat} (h : cmpOf c = true) : clsOf (decA c) = 0 ∧ clsOf c = 0 := by
  have hr : rowOf c ≠ 0 := by
    unfold cmpOf at h
    rw [Bool.and_eq_true, decide_eq_true_eq] at h
    exact h.1
  have hc := firsts_chk
  obtain ⟨C, e1, e2⟩ := maskK_eq ofRange 12 (fun C => allRows (fun l => bif isC l then bif bit C (f5 5 l) then false else bif bit C (f5 0 l) then false else true else true) 16 2061 decS.data.toList) 388 clsS.data.toList 0
  rw [e1] at hc
  have hz : ∀ x, bit C x = false → clsOf x = 0 := fun x hx => by
    refine cls_zero fun i hi hb => ?_
    have : bit C x = true := (e2 x).2 (.inr ⟨i, hi, (bit_range _ _ _).2 ⟨hb.1, by rw [Nat.sub_eq]; omega⟩⟩)
    rw [hx] at this
    exact Bool.noConfusion this
  obtain ⟨i, hi, hx1, hx2, _, hx4⟩ := row_at hr
  have hf := allRows_at _ _ _ _ i hc hi
  rw [hx1, hx2, hx4, h, cond_true] at hf
  cases ha : bit C (decA c) with
  | true => rw [ha] at hf; exact Bool.noConfusion hf
  | false =>
    rw [ha, cond_false] at hf
    cases hb : bit C c with
    | true => rw [hb] at hf; exact Bool.noConfusion hf
    | false => exact ⟨hz _ ha, hz _ hb⟩
/-- What starts is composed with nothing ahead of it. -/
theorem starts_none {c a x : Nat} (h : startOf c = true) : ¬ PairP parL a c x true := fun hp => by
  obtain ⟨_, _, _, _, hs⟩ := pair_back hp
  unfold startOf at h
  rw [Bool.and_eq_true, decide_eq_true_eq, decide_eq_true_eq] at h
  have h2 := h.2
  unfold quickOf at h2
  split at h2
  · omega
  · omega

end Go.Proofs.YtipemmjbgegmfaaGreatDoor
