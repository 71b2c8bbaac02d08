/- A stream that looks on from where it looked last, plain. No program is met here. -/
import Derived.Test.YtipemmjbgegmfaaGreatDoorStp
namespace Go.Proofs.YtipemmjbgegmfaaGreatDoor
open Go.RowKit Go.Proofs.YtipemmjbgegmfaaGreatDoor.Ordr Go.Proofs.YtipemmjbgegmfaaGreatDoor.Cmpr

theorem safeF_same {l m : List Nat} : ∀ n, (∀ i, i ≤ n → l[i]? = m[i]?) → safeF l n = safeF m n
  | 0, _ => rfl
  | n + 1, h => by rw [safeF_step, safeF_step, h (n + 1) (Nat.le_refl _), safeF_same n (fun i hi => h i (by omega))]
theorem safeF_app (cs ds : List Nat) : ∀ n, safeF (cs ++ ds) (cs.length + n) = if safeF ds n = 0 then safeF (cs ++ ds) cs.length else cs.length + safeF ds n
  | 0 => by rw [if_pos (show safeF ds 0 = 0 from rfl)]; rfl
  | n + 1 => by
    have e : (cs ++ ds)[cs.length + (n + 1)]? = ds[n + 1]? := by rw [List.getElem?_append_right (by omega)]; congr 1; omega
    rw [show cs.length + (n + 1) = (cs.length + n) + 1 from rfl, safeF_step, safeF_step]
    rw [show cs.length + n + 1 = cs.length + (n + 1) from rfl, e]
    by_cases h : startOf (ds[n + 1]?.getD 0) = true
    · rw [if_pos h, if_pos h, if_neg (by omega)]
    · rw [if_neg h, if_neg h]; exact safeF_app cs ds n
theorem safe_split (cs ds : List Nat) (d : Nat) (h : safeOf (cs ++ [d]) = 0) : safeOf (cs ++ d :: ds) = if safeOf (d :: ds) = 0 then 0 else cs.length + safeOf (d :: ds) := by
  have h1 := safeF_app cs (d :: ds) ds.length
  have h2 : safeF (cs ++ d :: ds) cs.length = 0 := by
    rw [← h]
    unfold safeOf
    rw [show (cs ++ [d]).length - 1 = cs.length by simp]
    refine safeF_same _ fun i hi => ?_
    by_cases hic : i < cs.length
    · rw [List.getElem?_append_left hic, List.getElem?_append_left hic]
    · have : i = cs.length := by omega
      subst this
      simp
  rw [h2] at h1
  unfold safeOf
  rw [show (cs ++ d :: ds).length - 1 = cs.length + ds.length by simp, show (d :: ds).length - 1 = ds.length by simp]
  exact h1

/-- Up to byte p all was looked at: code points none of which, but the first, starts, nor does the one that begins there. -/
def LastOk (h : List UInt8) (p : Nat) : Prop := p = 0 ∨ ∃ cs d r, U.Cps cs ∧ U.isCp d ∧ h = U.encs cs ++ (U.enc d ++ r) ∧ p = (U.encs cs).length ∧ safeOf (cs ++ [d]) = 0
theorem LastOk.app {h : List UInt8} {p : Nat} (hl : LastOk h p) (b : List UInt8) : LastOk (h ++ b) p := by
  rcases hl with rfl | ⟨cs, d, r, h1, h2, rfl, h4, h5⟩
  · exact .inl rfl
  · exact .inr ⟨cs, d, r ++ b, h1, h2, by simp only [List.append_assoc], h4, h5⟩
theorem LastOk.le {h : List UInt8} {p : Nat} (hl : LastOk h p) : p ≤ h.length := by
  rcases hl with rfl | ⟨cs, d, r, h1, h2, rfl, rfl, h5⟩
  · exact Nat.zero_le _
  · rw [List.length_append]; omega
theorem LastOk.nil {p : Nat} (hl : LastOk [] p) : p = 0 := by have := hl.le; simpa using this

theorem fault_behind {cs : List Nat} (h : U.Cps cs) (t : List UInt8) : (0 ≤ U.fault t → U.fault (U.encs cs ++ t) = (U.encs cs).length + U.fault t) ∧ (U.fault t < 0 → U.fault (U.encs cs ++ t) = -1) := by
  have h1 := U.fault_append (U.encs cs) t
  have h2 := U.fault_encs h
  exact ⟨fun h3 => h1.2.1 (by omega) h3, fun h3 => h1.1 (by omega) h3⟩
theorem bad_behind {cs : List Nat} (h : U.Cps cs) (t : List UInt8) : BadB (U.encs cs ++ t) ↔ BadB t := by
  obtain ⟨h1, h2⟩ := fault_behind h t
  unfold BadB
  by_cases ht : 0 ≤ U.fault t
  · rw [h1 ht]
    have e : ((U.encs cs).length + U.fault t : Int).toNat = (U.encs cs).length + (U.fault t).toNat := by omega
    rw [e, List.drop_append, List.drop_of_length_le (by omega), List.nil_append, show (U.encs cs).length + (U.fault t).toNat - (U.encs cs).length = (U.fault t).toNat by omega]
    exact ⟨fun hx => ⟨ht, hx.2⟩, fun hx => ⟨by omega, hx.2⟩⟩
  · rw [h2 (by omega)]
    exact ⟨fun hx => absurd hx.1 (by omega), fun hx => absurd hx.1 ht⟩
theorem right_behind {cs : List Nat} (h : U.Cps cs) (t : List UInt8) : rightOf (U.encs cs ++ t) = U.encs cs ++ rightOf t := by
  obtain ⟨h1, h2⟩ := fault_behind h t
  unfold rightOf
  by_cases ht : 0 ≤ U.fault t
  · rw [h1 ht, if_pos (by omega), if_pos ht]
    have e : ((U.encs cs).length + U.fault t : Int).toNat = (U.encs cs).length + (U.fault t).toNat := by omega
    rw [e, List.take_append, List.take_of_length_le (by omega), show (U.encs cs).length + (U.fault t).toNat - (U.encs cs).length = (U.fault t).toNat by omega]
  · rw [h2 (by omega), if_neg (by omega), if_neg ht]
theorem enc_ne {d : Nat} (h : U.isCp d) : U.enc d ≠ [] := fun e => by
  have h1 := U.enc_len h
  have h2 := U.wid_pos.2 h
  rw [e] at h1
  simp at h1
  omega
theorem encs_first {d : Nat} {ds : List Nat} {x : List UInt8} (h : U.isCp d) (hd : U.Cps ds) (e : U.encs ds = U.enc d ++ x) : ∃ ds', ds = d :: ds' := by
  cases ds with
  | nil =>
    have := enc_ne h
    rw [U.encs_nil] at e
    have h1 := List.append_eq_nil_iff.1 e.symm
    exact absurd h1.1 this
  | cons y ds' =>
    rw [U.encs_cons] at e
    have e1 := U.one_enc (hd y (by simp)) (U.encs ds')
    rw [e, U.one_enc h] at e1
    exact ⟨ds', by rw [(Prod.mk.inj e1).1]⟩
theorem cps_snoc {cs : List Nat} {d : Nat} (h : U.Cps cs) (hd : U.isCp d) : U.Cps (cs ++ [d]) := fun x hx => by
  rcases List.mem_append.1 hx with h1 | h1
  · exact h x h1
  · rw [List.mem_singleton] at h1; rw [h1]; exact hd

/-- What a look from there tells. -/
structure Look (h : List UInt8) (p : Nat) (ds : List Nat) : Prop where
  cps : U.Cps ds
  right : rightOf (h.drop p) = U.encs ds
  none_ : ds = [] → safeB (rightOf h) = 0 ∧ LastOk h p
  some_ : safeOf ds ≠ 0 → safeB (rightOf h) = p + (U.encs (ds.take (safeOf ds))).length
  stay : ds ≠ [] → safeOf ds = 0 → safeB (rightOf h) = 0 ∧ LastOk h (p + (U.encs (ds.take (ds.length - 1))).length)
theorem look {h : List UInt8} {p : Nat} (hl : LastOk h p) : (BadB h ↔ BadB (h.drop p)) ∧ ∃ ds, Look h p ds := by
  have key : ∀ (cs : List Nat) (t : List UInt8), h = U.encs cs ++ t → U.Cps cs → p = (U.encs cs).length → (∀ ds, U.Cps ds → rightOf t = U.encs ds → (ds = [] → cs = []) ∧ (ds ≠ [] → safeOf (cs ++ ds) = if safeOf ds = 0 then 0 else cs.length + safeOf ds)) → (BadB h ↔ BadB (h.drop p)) ∧ ∃ ds, Look h p ds := by
    intro cs t e hc hp hds
    have hdr : h.drop p = t := by rw [e, hp]; exact List.drop_left
    obtain ⟨ds, hd, hr, q, hq⟩ := right_cps t
    obtain ⟨hd1, hd2⟩ := hds ds hd hr
    have hrh : rightOf h = U.encs (cs ++ ds) := by rw [e, right_behind hc, hr, U.encs_append]
    have hcd : U.Cps (cs ++ ds) := hc.append hd
    have hsb := safeB_encs hcd
    rw [← hrh] at hsb
    refine ⟨by rw [hdr, e]; exact bad_behind hc t, ds, hd, by rw [hdr]; exact hr, fun h0 => ?_, fun h0 => ?_, fun h0 h1 => ?_⟩
    · have hcs := hd1 h0
      subst h0 hcs
      rw [hsb]
      exact ⟨rfl, .inl (by rw [hp]; rfl)⟩
    · have hne : ds ≠ [] := fun hx => h0 (by rw [hx]; rfl)
      rw [hsb, hd2 hne, if_neg h0, List.take_append, List.take_of_length_le (by omega), show cs.length + safeOf ds - cs.length = safeOf ds by omega, U.encs_append, List.length_append, hp]
    · have h2 := hd2 h0
      rw [if_pos h1] at h2
      rw [hsb, h2]
      refine ⟨rfl, .inr ⟨cs ++ ds.take (ds.length - 1), ds.getLast h0, q, hc.append (cps_take hd _), hd _ (List.getLast_mem h0), ?_, by rw [U.encs_append, List.length_append, hp], ?_⟩⟩
      · have e2 : ds.take (ds.length - 1) ++ [ds.getLast h0] = ds := by rw [← List.dropLast_eq_take]; exact List.dropLast_concat_getLast h0
        rw [e, hq]
        conv => lhs; rw [← e2]
        rw [U.encs_append, U.encs_append, U.encs_cons, U.encs_nil, List.append_nil]
        simp only [List.append_assoc]
      · rw [List.append_assoc, ← List.dropLast_eq_take, List.dropLast_concat_getLast h0]; exact h2
  rcases hl with rfl | ⟨cs, d, r, hc, hd, he, hp, hs⟩
  · refine key [] h (by rfl) (fun c h => by cases h) rfl fun ds _ _ => ⟨fun _ => rfl, fun _ => ?_⟩
    rw [List.nil_append]
    by_cases h0 : safeOf ds = 0
    · rw [if_pos h0, h0]
    · rw [if_neg h0]; simp
  · refine key cs (U.enc d ++ r) he hc hp fun ds hds hr => ?_
    have hone : U.enc d ++ r = U.encs [d] ++ r := by rw [U.encs_cons, U.encs_nil, List.append_nil]
    have hc1 : U.Cps [d] := fun x hx => by rw [List.mem_singleton] at hx; rw [hx]; exact hd
    rw [hone, right_behind hc1, U.encs_cons, U.encs_nil, List.append_nil] at hr
    obtain ⟨ds', rfl⟩ := encs_first hd hds hr.symm
    exact ⟨fun h0 => (by cases h0), fun _ => safe_split cs ds' d hs⟩

end Go.Proofs.YtipemmjbgegmfaaGreatDoor
