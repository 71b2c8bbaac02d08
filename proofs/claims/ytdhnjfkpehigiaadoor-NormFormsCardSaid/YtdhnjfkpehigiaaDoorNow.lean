/- The document's normal forms: what its functions answer. -/
import Derived.Test.YtdhnjfkpehigiaaDoorCom
import Derived.Test.YtdhnjfkpehigiaaDoorCodes
namespace Go.Proofs.YtdhnjfkpehigiaaDoor
open Go.RowKit Go.Proofs.YtdhnjfkpehigiaaDoor.Ordr Go.Proofs.YtdhnjfkpehigiaaDoor.Cmpr

noncomputable def nfdL (l : List Nat) : List Nat := Nrmr.nfd clsOf full l
noncomputable def nfcL (l : List Nat) : List Nat := Nrmr.nfc clsOf twoO full l
theorem nfdL_eq (l : List Nat) : nfdL l = ord clsOf (l.flatMap full) := rfl
theorem nfcL_eq (l : List Nat) : nfcL l = comp clsOf twoO (nfdL l) := rfl
theorem nfdL_len (l : List Nat) : (nfdL l).length ≤ 4 * l.length := by
  rw [nfdL_eq, ord_len]; exact flat_full_len l
theorem nfcL_len (l : List Nat) : (nfcL l).length ≤ 4 * l.length := by
  rw [nfcL_eq]; exact Nat.le_trans (comp_len clsOf twoO _) (nfdL_len l)
theorem nfdL_lt (l : List Nat) (h : ∀ c ∈ l, c < 4294967296) : ∀ y ∈ nfdL l, y < 4294967296 := fun y hy => flat_lt l h y ((ord_perm clsOf _).mem_iff.1 hy)
theorem nfcL_lt (l : List Nat) (h : ∀ c ∈ l, c < 4294967296) : ∀ y ∈ nfcL l, y < 4294967296 := comp_lt _ (nfdL_lt l h)

set_option maxRecDepth 100000 in
theorem nfd_ref (A : Option Addr) (n d : Nat) (l : List Nat) (w : World) (h : Rd w A d (us l)) (hn : n = l.length) (hmax : n ≤ 20000) :
    Calls Tryd.prog 20 #[.slice A n d] w (Gives (nfdL l) w) := by
  have hfl := flat_full_len l
  have c1 := Lib.hid (list_ref5 A n d l w h hn (by omega))
  have c2 := Lib.hid (fun B e w' (hr : Rd w' B e (us (l.flatMap full))) => order_ref B (l.flatMap full).length e (l.flatMap full) w' hr rfl (by omega))
  rw [nfdL_eq]
  clear h hn hfl
  generalize ord clsOf (l.flatMap full) = D at *
  generalize l.flatMap full = F at *
  go_enter Tryd.func20, Tryd.ntmps20
  go_wp2_with fail
  refine c1.out.mono ?_
  rintro e w1 ⟨B1, d1, rfl, hO, hu1⟩
  have C2 := Lib.hid (c2.out B1 d1 w1 (own_read hO))
  clear hO c1 c2
  go_wp2_with fail
  refine C2.out.mono ?_
  rintro e w2 ⟨B2, d2, rfl, hO2, hu2⟩
  have hG : Gives D w (.returned (.slice B2 D.length d2)) w2 := ⟨B2, d2, rfl, own_base hO2 hu1.size, hu1.trans hu2⟩
  clear hO2 C2
  go_wp2_with fail
  go_ret
  exact hG

set_option maxRecDepth 100000 in
theorem nfc_ref (A : Option Addr) (n d : Nat) (l : List Nat) (w : World) (h : Rd w A d (us l)) (hn : n = l.length) (hmax : n ≤ 20000) :
    Calls Tryd.prog 19 #[.slice A n d] w (Gives (nfcL l) w) := by
  have hfl := nfdL_len l
  have c1 := Lib.hid (nfd_ref A n d l w h hn hmax)
  have c2 := Lib.hid (fun B e w' (hr : Rd w' B e (us (nfdL l))) => compose_ref B (nfdL l).length e (nfdL l) w' hr rfl (by omega))
  rw [nfcL_eq]
  clear h hn hfl
  generalize comp clsOf twoO (nfdL l) = D at *
  generalize nfdL l = F at *
  go_enter Tryd.func19, Tryd.ntmps19
  go_wp2_with fail
  refine c1.out.mono ?_
  rintro e w1 ⟨B1, d1, rfl, hO, hu1⟩
  have C2 := Lib.hid (c2.out B1 d1 w1 (own_read hO))
  clear hO c1 c2
  go_wp2_with fail
  refine C2.out.mono ?_
  rintro e w2 ⟨B2, d2, rfl, hO2, hu2⟩
  have hG : Gives D w (.returned (.slice B2 D.length d2)) w2 := ⟨B2, d2, rfl, own_base hO2 hu1.size, hu1.trans hu2⟩
  clear hO2 C2
  go_wp2_with fail
  go_ret
  exact hG

set_option maxRecDepth 100000 in
theorem nis_ref (A : Option Addr) (n d : Nat) (l : List Nat) (w : World) (h : Rd w A d (us l)) (hn : n = l.length) (hmax : n ≤ 20000) :
    Calls Tryd.prog 22 #[.slice A n d] w fun e w' => e = .returned (.bool (decide (nfcL l = l))) ∧ Up w w' := by
  have c1 := Lib.hid (nfc_ref A n d l w h hn hmax)
  have c2 := Lib.hid (fun B e w' (u : Up w w') (hr : Rd w' B e (us (nfcL l))) => same_gen B A e d (nfcL l).length n (nfcL l) l w' hr (h.up u) rfl hn)
  clear h hn
  generalize nfcL l = D at *
  generalize decide (D = l) = r at *
  go_enter Tryd.func22, Tryd.ntmps22
  go_wp2_with fail
  refine c1.out.mono ?_
  rintro e w1 ⟨B1, d1, rfl, hO, hu1⟩
  have C2 := Lib.hid (c2.out B1 d1 w1 hu1 (own_read hO))
  clear hO c1 c2
  go_wp2_with fail
  refine C2.out.mono ?_
  rintro e w2 ⟨rfl, hu2⟩
  go_wp2_with fail
  go_ret
  exact ⟨rfl, hu1.trans hu2⟩

set_option maxRecDepth 100000 in
theorem nsame_ref (A B : Option Addr) (n d m e : Nat) (a b : List Nat) (w : World) (h : Rd w A d (us a)) (h2 : Rd w B e (us b)) (hn : n = a.length) (hm : m = b.length) (hmax : n ≤ 20000) (hmax2 : m ≤ 20000) :
    Calls Tryd.prog 24 #[.slice A n d, .slice B m e] w fun e w' => e = .returned (.bool (decide (nfdL a = nfdL b))) ∧ Up w w' := by
  have c1 := Lib.hid (nfd_ref A n d a w h hn hmax)
  have c2 := Lib.hid (fun w' (u : Up w w') => nfd_ref B m e b w' (h2.up u) hm hmax2)
  clear h h2 hn hm
  generalize nfdL a = D at *
  generalize nfdL b = E at *
  generalize hr : decide (D = E) = r at *
  have HR := Lib.hid hr
  clear hr
  go_enter Tryd.func24, Tryd.ntmps24
  go_wp2_with fail
  refine c1.out.mono ?_
  rintro e w1 ⟨B1, d1, rfl, hO, hu1⟩
  have HO := Lib.hid hO
  clear hO c1
  go_wp2_with fail
  refine (c2.out w1 hu1).mono ?_
  rintro e w2 ⟨B2, d2, rfl, hO2, hu2⟩
  have c3 := same_gen B1 B2 d1 d2 D.length E.length D E w2 (own_read (own_up HO.out hu2)) (own_read hO2) rfl rfl
  rw [HR.out] at c3
  have C3 := Lib.hid c3
  clear hO2 c2 c3
  go_wp2_with fail
  refine C3.out.mono ?_
  rintro e w3 ⟨rfl, hu3⟩
  go_wp2_with fail
  go_ret
  exact ⟨rfl, (hu1.trans hu2).trans hu3⟩

/-- Where a list can be cut. -/
noncomputable def safeF (l : List Nat) : Nat → Nat
  | 0 => 0
  | i + 1 => if startOf (l[i + 1]?.getD 0) = true then i + 1 else safeF l i
noncomputable def safeOf (l : List Nat) : Nat := safeF l (l.length - 1)
theorem safeF_le (l : List Nat) : ∀ i, safeF l i ≤ i
  | 0 => Nat.le_refl _
  | i + 1 => by unfold safeF; split; exact Nat.le_refl _; exact Nat.le_trans (safeF_le l i) (Nat.le_succ i)
theorem safeF_step (l : List Nat) (i : Nat) : safeF l (i + 1) = if startOf (l[i + 1]?.getD 0) = true then i + 1 else safeF l i := rfl
theorem safeF_start (l : List Nat) (i : Nat) : 0 < safeF l i → startOf (l[safeF l i]?.getD 0) = true := by
  induction i with
  | zero => intro h; exact absurd h (Nat.lt_irrefl 0)
  | succ i ih =>
    intro h
    by_cases hs : startOf (l[i + 1]?.getD 0) = true
    · have e : safeF l (i + 1) = i + 1 := by rw [safeF_step, if_pos hs]
      rw [e]; exact hs
    · have e : safeF l (i + 1) = safeF l i := by rw [safeF_step, if_neg hs]
      rw [e] at h ⊢
      exact ih h

set_option maxRecDepth 100000 in
theorem nsafe_ref (A : Option Addr) (n d : Nat) (l : List Nat) (w : World) (h : Rd w A d (us l)) (hn : n = l.length) (hmax : n ≤ 20000) :
    Calls Tryd.prog 28 #[.slice A n d] w fun e w' => e = .returned (.int .i64 (safeOf l : Int)) ∧ Up w w' := by
  have HS := Lib.hid starts_ref
  have H := Lib.hid h
  have Hn := Lib.hid hn
  have hf := h.fit
  rw [us_len, ← hn] at hf
  have HF := Lib.hid (fun i => show safeF l (i + 1) = if startOf (l[i + 1]?.getD 0) = true then i + 1 else safeF l i from rfl)
  have hz : Hid (safeF l 0 = 0) := Lib.hid rfl
  have hso : Hid (safeOf l = safeF l (n - 1)) := Lib.hid (by unfold safeOf; rw [hn])
  clear h hn
  generalize safeOf l = s at *
  have hst : Hid (∀ i (h : i < l.length), startOf (l[i]?.getD 0) = startOf l[i]) := Lib.hid (fun i h => by rw [List.getElem?_eq_getElem h]; rfl)
  by_cases hn0 : n = 0
  · have hs0 : s = 0 := by rw [hso.out, hn0]; exact hz.out
    subst hn0
    subst hs0
    clear HF hz hso hst
    go_enter Tryd.func28, Tryd.ntmps28
    go_wp2_with fail
    go_loopw [3] (fun i wr => i = .int .i64 (-1) ∧ Up w wr) (fun _ _ => 0)
    case atStart => exact ⟨rfl, Up.refl _⟩
    case round =>
      obtain ⟨rfl, hu⟩ := hrel
      go_wp2_with fail
      go_ret
      exact ⟨rfl, hu⟩
  obtain ⟨q, rfl⟩ : ∃ q, n = q + 1 := ⟨n - 1, by omega⟩
  rw [Nat.add_sub_cancel] at hso
  go_enter Tryd.func28, Tryd.ntmps28
  go_wp2_with fail
  go_loopw [3] (fun i wr => ∃ k : Nat, k ≤ q ∧ i = .int .i64 (k : Int) ∧ Hid (s = safeF l k) ∧ Up w wr) (fun i _ => (intOf i).toNat)
  case atStart => exact ⟨q, Nat.le_refl _, rfl, hso, Up.refl _⟩
  case round =>
    obtain ⟨k, hk, rfl, hsk, hu⟩ := hrel
    by_cases hk0 : k = 0
    · subst hk0
      have hs0 : Hid (s = 0) := Lib.hid (hsk.out.trans hz.out)
      clear HF hz hso hst hsk
      go_wp2_with fail
      go_ret
      exact ⟨by rw [hs0.out]; rfl, hu⟩
    · obtain ⟨j, rfl⟩ : ∃ j, k = j + 1 := ⟨k - 1, by omega⟩
      have hjl : j + 1 < l.length := by rw [← Hn.out]; omega
      obtain ⟨a, rfl, _⟩ := H.out.ad (by omega)
      have hcell : wr.cell? ⟨a.block, a.off + (j + 1), none⟩ = some (.int .u32 (l[j + 1] : Int)) := (H.out.up hu).cell a rfl (j + 1) _ (us_get l (j + 1) hjl)
      have hS := hsk.out
      rw [HF.out j, hst.out (j + 1) hjl] at hS
      have C1 := Lib.hid (HS.out l[j + 1])
      clear HF hst hsk
      generalize l[j + 1] = x at *
      cases hx : startOf x with
      | true =>
        rw [hx, if_pos rfl] at hS
        rw [hx] at C1
        have HS2 := Lib.hid hS
        clear hS hx hk0
        go_wp2_with fail
        refine (C1.out _).mono ?_
        rintro e w1 ⟨rfl, hu1⟩
        go_wp2_with fail
        go_ret
        exact ⟨by rw [HS2.out]; simp, hu.trans hu1⟩
      | false =>
        rw [hx, if_neg (by decide)] at hS
        rw [hx] at C1
        have HS2 := Lib.hid hS
        clear hS hx hk0
        go_wp2_with fail
        refine (C1.out _).mono ?_
        rintro e w1 ⟨rfl, hu1⟩
        go_wp2_with fail
        go_roundw
        case rel => exact ⟨j, by omega, by go_num, HS2, hu.trans hu1⟩
        case measure => simp [intOf]

end Go.Proofs.YtdhnjfkpehigiaaDoor
