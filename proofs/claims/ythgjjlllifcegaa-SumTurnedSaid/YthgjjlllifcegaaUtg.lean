/- UTF-8, plain: texts of code points, one behind the other; where the first fault stands. -/
import Derived.Test.YthgjjlllifcegaaBas
namespace Go.Proofs.Ythgjjlllifcegaa.U

def encs (cs : List Nat) : List UInt8 := cs.flatMap enc
def Cps (cs : List Nat) : Prop := ∀ c ∈ cs, isCp c
instance (cs : List Nat) : Decidable (Cps cs) := by unfold Cps; exact inferInstance

theorem encs_nil : encs [] = [] := rfl
theorem encs_cons (c : Nat) (cs : List Nat) : encs (c :: cs) = enc c ++ encs cs := by simp [encs]
theorem encs_append (cs ds : List Nat) : encs (cs ++ ds) = encs cs ++ encs ds := by simp [encs]
theorem Cps.tail {c : Nat} {cs : List Nat} (h : Cps (c :: cs)) : Cps cs := fun x hx => h x (List.mem_cons_of_mem _ hx)
theorem Cps.head {c : Nat} {cs : List Nat} (h : Cps (c :: cs)) : isCp c := h c List.mem_cons_self
theorem Cps.append {cs ds : List Nat} (h : Cps cs) (k : Cps ds) : Cps (cs ++ ds) := fun x hx => by
  rcases List.mem_append.1 hx with h1 | h1
  · exact h x h1
  · exact k x h1

theorem enc_pos {c : Nat} (h : isCp c) : 0 < (enc c).length := by rw [enc_len h]; exact wid_pos.2 h

/-- Any bytes are those of code points, and a rest that begins with none. -/
theorem split (l : List UInt8) : ∃ cs r, Cps cs ∧ l = encs cs ++ r ∧ (one r).2 = 0 := by
  have key : ∀ (n : Nat) (l : List UInt8), l.length ≤ n → ∃ cs r, Cps cs ∧ l = encs cs ++ r ∧ (one r).2 = 0 := by
    intro n
    induction n with
    | zero =>
      intro l hl
      have : l = [] := List.eq_nil_of_length_eq_zero (by omega)
      subst this
      exact ⟨[], [], (fun _ h => by cases h), rfl, rfl⟩
    | succ n ih =>
      intro l hl
      by_cases h0 : (one l).2 = 0
      · exact ⟨[], l, (fun _ h => by cases h), rfl, h0⟩
      · obtain ⟨h1, h2, h3⟩ := one_spec h0
        have hp := wid_pos.2 h1
        obtain ⟨cs, r, hc, he, hr⟩ := ih (l.drop (one l).2) (by rw [List.length_drop]; omega)
        refine ⟨(one l).1 :: cs, r, ?_, ?_, hr⟩
        · intro x hx
          rcases List.mem_cons.1 hx with rfl | hx
          · exact h1
          · exact hc x hx
        · rw [encs_cons, List.append_assoc, ← he]
          exact h3
  exact key l.length l (Nat.le_refl _)

theorem faultAt_shift (c : Nat) (h : isCp c) (pre r : List UInt8) : faultAt (pre ++ (enc c ++ r)) pre.length = faultAt (pre ++ (enc c ++ r)) (pre.length + (enc c).length) := by
  have hd : (pre ++ (enc c ++ r)).drop pre.length = enc c ++ r := List.drop_left
  have h1 := one_enc h r
  have hp := wid_pos.2 h
  have hl := enc_len h
  have hlt : pre.length < (pre ++ (enc c ++ r)).length := by simp only [List.length_append]; omega
  rw [faultAt_step hlt (by rw [hd, h1]; show wid c ≠ 0; omega), hd, h1]
  show faultAt _ (pre.length + wid c) = _
  rw [hl]

theorem faultAt_encs : ∀ (cs : List Nat), Cps cs → ∀ pre r : List UInt8, faultAt (pre ++ (encs cs ++ r)) pre.length = faultAt (pre ++ (encs cs ++ r)) (pre.length + (encs cs).length)
  | [], _, pre, r => by simp [encs]
  | c :: cs, h, pre, r => by
    have e : pre ++ (encs (c :: cs) ++ r) = (pre ++ enc c) ++ (encs cs ++ r) := by rw [encs_cons]; simp
    have e2 : pre ++ (encs (c :: cs) ++ r) = pre ++ (enc c ++ (encs cs ++ r)) := by rw [encs_cons]; simp
    rw [e2, faultAt_shift c h.head pre (encs cs ++ r), ← e2, e]
    have := faultAt_encs cs h.tail (pre ++ enc c) r
    rw [List.length_append] at this
    rw [this, encs_cons, List.length_append, Nat.add_assoc]

/-- Where right bytes end, the rest beginning with no code point: there the fault stands. -/
theorem fault_at {cs : List Nat} (h : Cps cs) {r : List UInt8} (hr : (one r).2 = 0) : fault (encs cs ++ r) = if r = [] then -1 else ((encs cs).length : Int) := by
  have := faultAt_encs cs h [] r
  simp only [List.nil_append, List.length_nil, Nat.zero_add] at this
  unfold fault
  rw [this]
  by_cases h0 : r = []
  · subst h0
    rw [if_pos rfl, List.append_nil]
    exact faultAt_end (Nat.le_refl _)
  · rw [if_neg h0]
    have hp : 0 < r.length := List.length_pos_iff.2 h0
    exact faultAt_bad (by rw [List.length_append]; omega) (by rw [List.drop_left]; exact hr)

theorem fault_encs {cs : List Nat} (h : Cps cs) : fault (encs cs) = -1 := by
  have := fault_at h (r := []) rfl
  simpa using this

/-- Bytes without a fault are those of code points. -/
theorem right_of {l : List UInt8} (h : fault l < 0) : ∃ cs, Cps cs ∧ l = encs cs := by
  obtain ⟨cs, r, hc, he, hr⟩ := split l
  rw [he, fault_at hc hr] at h
  by_cases h0 : r = []
  · subst h0
    exact ⟨cs, hc, by simpa using he⟩
  · rw [if_neg h0] at h
    omega

theorem fault_ge (l : List UInt8) : -1 ≤ fault l ∧ fault l ≤ l.length := by
  obtain ⟨cs, r, hc, he, hr⟩ := split l
  rw [he, fault_at hc hr, List.length_append]
  split <;> omega

/-- Two texts, one behind the other. -/
theorem fault_append (a b : List UInt8) : (fault a < 0 → fault b < 0 → fault (a ++ b) = -1) ∧ (fault a < 0 → 0 ≤ fault b → fault (a ++ b) = a.length + fault b) ∧
    (0 ≤ fault a → fault a ≤ fault (a ++ b) ∨ fault (a ++ b) = -1) := by
  obtain ⟨cs, r, hc, he, hr⟩ := split a
  obtain ⟨ds, s, hd, hf, hs⟩ := split b
  have ha := fault_at hc hr
  have hb := fault_at hd hs
  rw [← he] at ha
  rw [← hf] at hb
  refine ⟨fun h1 h2 => ?_, fun h1 h2 => ?_, fun h1 => ?_⟩
  · obtain ⟨cs, hc, rfl⟩ := right_of h1
    obtain ⟨ds, hd, rfl⟩ := right_of h2
    rw [← encs_append]
    exact fault_encs (hc.append hd)
  · obtain ⟨cs, hc, rfl⟩ := right_of h1
    have hs0 : s ≠ [] := fun e => by rw [if_pos e] at hb; omega
    rw [if_neg hs0] at hb
    rw [hb, hf, ← List.append_assoc, ← encs_append, fault_at (hc.append hd) hs, if_neg hs0, encs_append, List.length_append]
    omega
  · have hr0 : r ≠ [] := fun e => by rw [if_pos e] at ha; omega
    rw [if_neg hr0] at ha
    obtain ⟨es, t, hes, ht, ht0⟩ := split (r ++ b)
    have e : a ++ b = encs (cs ++ es) ++ t := by rw [he, encs_append, List.append_assoc, List.append_assoc, ht]
    rw [e, fault_at (hc.append hes) ht0, ha]
    by_cases h0 : t = []
    · rw [if_pos h0]; exact .inr rfl
    · rw [if_neg h0, encs_append, List.length_append]; left; omega

/-- No two lists of code points have the same bytes. -/
theorem encs_inj : ∀ {cs ds : List Nat}, Cps cs → Cps ds → encs cs = encs ds → cs = ds
  | [], [], _, _, _ => rfl
  | [], d :: ds, _, hd, h => by
    have := congrArg List.length h
    rw [encs_nil, encs_cons, List.length_append, List.length_nil] at this
    have := enc_pos hd.head
    omega
  | c :: cs, [], hc, _, h => by
    have := congrArg List.length h
    rw [encs_nil, encs_cons, List.length_append, List.length_nil] at this
    have := enc_pos hc.head
    omega
  | c :: cs, d :: ds, hc, hd, h => by
    rw [encs_cons, encs_cons] at h
    have h1 := one_enc hc.head (encs cs)
    have h2 := one_enc hd.head (encs ds)
    rw [h] at h1
    rw [h1] at h2
    have e : c = d := (Prod.mk.inj h2).1
    subst e
    rw [encs_inj hc.tail hd.tail (List.append_cancel_left h)]

theorem encs_len_le (cs : List Nat) (h : Cps cs) : cs.length ≤ (encs cs).length := by
  induction cs with
  | nil => simp
  | cons c cs ih =>
    have := ih h.tail
    have := enc_pos h.head
    rw [encs_cons, List.length_append, List.length_cons]
    omega
theorem encs_len_4 (cs : List Nat) (h : Cps cs) : (encs cs).length ≤ 4 * cs.length := by
  induction cs with
  | nil => simp [encs]
  | cons c cs ih =>
    have := ih h.tail
    have := wid_le c
    have := enc_len h.head
    rw [encs_cons, List.length_append, List.length_cons]
    omega

theorem enc_at {c : Nat} (h : isCp c) (k : Nat) (hk : k < (enc c).length) : (k = 0 → (enc c)[k].toNat < 128 ∨ 191 < (enc c)[k].toNat) ∧ (1 ≤ k → 128 ≤ (enc c)[k].toNat ∧ (enc c)[k].toNat ≤ 191) := by
  have hc := h.1
  by_cases h1 : c < 128
  · have e : enc c = [UInt8.ofNat c] := by unfold enc; rw [if_pos h1]
    simp only [e, List.length_cons, List.length_nil] at hk ⊢
    obtain rfl : k = 0 := by omega
    refine ⟨fun _ => .inl ?_, fun h => absurd h (by omega)⟩
    show (UInt8.ofNat c).toNat < 128
    rw [toNat_of _ (by omega)]; omega
  · by_cases h2 : c < 2048
    · have e : enc c = [UInt8.ofNat (192 + c / 64), UInt8.ofNat (128 + c % 64)] := by unfold enc; rw [if_neg h1, if_pos h2]
      simp only [e, List.length_cons, List.length_nil] at hk ⊢
      rcases k with _ | _ | k
      · exact ⟨fun _ => .inr (by show 191 < (UInt8.ofNat (192 + c / 64)).toNat; rw [toNat_of _ (by omega)]; omega), fun h => absurd h (by omega)⟩
      · exact ⟨fun h => absurd h (by omega), fun _ => by show 128 ≤ (UInt8.ofNat (128 + c % 64)).toNat ∧ (UInt8.ofNat (128 + c % 64)).toNat ≤ 191; rw [toNat_of _ (by omega)]; omega⟩
      · omega
    · by_cases h3 : c < 65536
      · have e : enc c = [UInt8.ofNat (224 + c / 4096), UInt8.ofNat (128 + c / 64 % 64), UInt8.ofNat (128 + c % 64)] := by unfold enc; rw [if_neg h1, if_neg h2, if_pos h3]
        simp only [e, List.length_cons, List.length_nil] at hk ⊢
        rcases k with _ | _ | _ | k
        · exact ⟨fun _ => .inr (by show 191 < (UInt8.ofNat (224 + c / 4096)).toNat; rw [toNat_of _ (by omega)]; omega), fun h => absurd h (by omega)⟩
        · exact ⟨fun h => absurd h (by omega), fun _ => by show 128 ≤ (UInt8.ofNat (128 + c / 64 % 64)).toNat ∧ (UInt8.ofNat (128 + c / 64 % 64)).toNat ≤ 191; rw [toNat_of _ (by omega)]; omega⟩
        · exact ⟨fun h => absurd h (by omega), fun _ => by show 128 ≤ (UInt8.ofNat (128 + c % 64)).toNat ∧ (UInt8.ofNat (128 + c % 64)).toNat ≤ 191; rw [toNat_of _ (by omega)]; omega⟩
        · omega
      · have e : enc c = [UInt8.ofNat (240 + c / 262144), UInt8.ofNat (128 + c / 4096 % 64), UInt8.ofNat (128 + c / 64 % 64), UInt8.ofNat (128 + c % 64)] := by unfold enc; rw [if_neg h1, if_neg h2, if_neg h3]
        simp only [e, List.length_cons, List.length_nil] at hk ⊢
        rcases k with _ | _ | _ | _ | k
        · exact ⟨fun _ => .inr (by show 191 < (UInt8.ofNat (240 + c / 262144)).toNat; rw [toNat_of _ (by omega)]; omega), fun h => absurd h (by omega)⟩
        · exact ⟨fun h => absurd h (by omega), fun _ => by show 128 ≤ (UInt8.ofNat (128 + c / 4096 % 64)).toNat ∧ (UInt8.ofNat (128 + c / 4096 % 64)).toNat ≤ 191; rw [toNat_of _ (by omega)]; omega⟩
        · exact ⟨fun h => absurd h (by omega), fun _ => by show 128 ≤ (UInt8.ofNat (128 + c / 64 % 64)).toNat ∧ (UInt8.ofNat (128 + c / 64 % 64)).toNat ≤ 191; rw [toNat_of _ (by omega)]; omega⟩
        · exact ⟨fun h => absurd h (by omega), fun _ => by show 128 ≤ (UInt8.ofNat (128 + c % 64)).toNat ∧ (UInt8.ofNat (128 + c % 64)).toNat ≤ 191; rw [toNat_of _ (by omega)]; omega⟩
        · omega

/-- Bytes that begin with those of ds: so do the code points. -/
theorem pre_of : ∀ {ds l : List Nat} {r : List UInt8}, Cps ds → Cps l → encs ds ++ r = encs l → ∃ l', l = ds ++ l' ∧ r = encs l'
  | [], l, r, _, _, h => ⟨l, rfl, by simpa [encs] using h⟩
  | d :: ds, [], r, hd, _, h => by
    have := congrArg List.length h
    have := enc_pos hd.head
    rw [encs_cons, encs_nil] at *
    simp only [List.length_append, List.length_nil] at *
    omega
  | d :: ds, c :: l, r, hd, hl, h => by
    rw [encs_cons, encs_cons, List.append_assoc] at h
    have h1 := one_enc hd.head (encs ds ++ r)
    have h2 := one_enc hl.head (encs l)
    rw [h, h2] at h1
    have e : c = d := (Prod.mk.inj h1).1
    subst e
    obtain ⟨l', rfl, hr⟩ := pre_of hd.tail hl.tail (List.append_cancel_left h)
    exact ⟨l', rfl, hr⟩

/-- Bytes that end with those of code points: what stands ahead is right, too. -/
theorem suf_of {ds l : List Nat} {t : List UInt8} (hd : Cps ds) (hl : Cps l) (h : t ++ encs ds = encs l) : ∃ cs l', l = cs ++ l' ∧ t = encs cs := by
  obtain ⟨cs, r, hc, rfl, hr⟩ := split t
  rw [List.append_assoc] at h
  obtain ⟨l', rfl, h2⟩ := pre_of hc hl h
  have hl' : Cps l' := fun x hx => hl x (List.mem_append.2 (.inr hx))
  by_cases h0 : r = []
  · subst h0
    exact ⟨cs, l', rfl, by simp⟩
  · exfalso
    have hrp : 0 < r.length := List.length_pos_iff.2 h0
    cases l' with
    | nil =>
      have := congrArg List.length h2
      rw [encs_nil, List.length_append, List.length_nil] at this
      omega
    | cons c l' =>
      rw [encs_cons] at h2
      have hcp := hl'.head
      by_cases hle : (enc c).length ≤ r.length
      · have e : r = enc c ++ r.drop (enc c).length := by
          have h3 := congrArg (List.take (enc c).length) h2
          rw [List.take_append_of_le_length hle, List.take_left] at h3
          conv => lhs; rw [← List.take_append_drop (enc c).length r, h3]
        have h4 := one_enc hcp (r.drop (enc c).length)
        rw [← e] at h4
        rw [h4] at hr
        have := wid_pos.2 hcp
        have h8 : wid c = 0 := hr
        omega
      · have hlt : r.length < (enc c).length := by omega
        have h3 : (enc c)[r.length]? = (encs ds)[0]? := by
          have h5 := congrArg (fun x : List UInt8 => x[r.length]?) h2
          rw [List.getElem?_append_right (Nat.le_refl _), List.getElem?_append_left hlt, Nat.sub_self] at h5
          exact h5.symm
        rw [List.getElem?_eq_getElem hlt] at h3
        cases ds with
        | nil => simp [encs] at h3
        | cons d ds =>
          have hdp := enc_pos hd.head
          rw [encs_cons, List.getElem?_append_left hdp, List.getElem?_eq_getElem hdp] at h3
          injection h3 with h3
          have h6 := (enc_at hcp r.length hlt).2 hrp
          have h7 := (enc_at hd.head 0 hdp).1 rfl
          rw [← h3] at h7
          omega

/-- Where right bytes can be cut. -/
theorem cut_of {l : List Nat} (hl : Cps l) {k : Nat} : (fault ((encs l).take k) < 0 ∨ fault ((encs l).drop k) < 0) → k ≤ (encs l).length → ∃ j, j ≤ l.length ∧ (encs (l.take j)).length = k := by
  intro h hk
  rcases h with h | h
  · obtain ⟨ds, hd, he⟩ := right_of h
    obtain ⟨l', rfl, _⟩ := pre_of (r := (encs l).drop k) hd hl (by rw [← he, List.take_append_drop])
    refine ⟨ds.length, by simp, ?_⟩
    rw [List.take_left]
    have := congrArg List.length he
    rw [List.length_take] at this
    omega
  · obtain ⟨ds, hd, he⟩ := right_of h
    obtain ⟨cs, l', rfl, h2⟩ := suf_of (t := (encs l).take k) hd hl (by rw [← he, List.take_append_drop])
    refine ⟨cs.length, by simp, ?_⟩
    rw [List.take_left]
    have := congrArg List.length h2
    rw [List.length_take] at this
    omega
theorem cut_at {l : List Nat} {j : Nat} : (encs l).take (encs (l.take j)).length = encs (l.take j) ∧ (encs l).drop (encs (l.take j)).length = encs (l.drop j) := by
  have e : encs l = encs (l.take j) ++ encs (l.drop j) := by rw [← encs_append, List.take_append_drop]
  constructor
  · conv => lhs; rw [e]
    exact List.take_left
  · conv => lhs; rw [e]
    exact List.drop_left

end Go.Proofs.Ythgjjlllifcegaa.U
