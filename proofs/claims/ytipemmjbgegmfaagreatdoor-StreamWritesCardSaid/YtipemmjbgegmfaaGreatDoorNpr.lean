/- The program's norm: what its functions answer. -/
import Derived.Test.YtipemmjbgegmfaaGreatDoorNra
import Derived.Test.YtipemmjbgegmfaaGreatDoorEaa
import Derived.Test.YtipemmjbgegmfaaGreatDoorOpr
import Derived.Test.YtipemmjbgegmfaaGreatDoorCpr
namespace Go.Proofs.YtipemmjbgegmfaaGreatDoor
open Go.RowKit Go.Proofs.YtipemmjbgegmfaaGreatDoor.Ordr Go.Proofs.YtipemmjbgegmfaaGreatDoor.Cmpr

/-- What is known of a list behind j of the two steps. -/
def FormAt (w : World) (A : Option Addr) (n d : Nat) (m r : List Nat) (j : Nat) (A0 : Option Addr) (n0 d0 : Nat) (wr : World) : Prop :=
  Up w wr ∧ ((j = 0 ∧ A0 = A ∧ n0 = n ∧ d0 = d) ∨ (j = 1 ∧ n0 = m.length ∧ Rd wr A0 d0 (us m)) ∨ (j = 2 ∧ n0 = r.length ∧ wr.ownsRow w.heap.size 28 1 (.slice A0 r.length d0) r.length (us r)))

set_option maxRecDepth 100000 in
theorem form_prog (g1 g2 : Nat) (e1 : ∀ args w, (callFunc g1 args).run Tryz.prog w = .ok (.enter g1 args) w) (e2 : ∀ args w, (callFunc g2 args).run Tryz.prog w = .ok (.enter g2 args) w)
    (A : Option Addr) (n d : Nat) (m r : List Nat) (g : Nat) (w : World) (hS : Rd w (some ⟨g, 0, none⟩) 2 [.func (.func g1) #[] #[], .func (.func g2) #[] #[]])
    (c1 : ∀ w', Up w w' → Calls Tryz.prog g1 #[.slice A n d] w' (Gives m w'))
    (c2 : ∀ B e w', Up w w' → Rd w' B e (us m) → Calls Tryz.prog g2 #[.slice B m.length e] w' (Gives r w')) :
    Calls Tryz.prog 55 #[.slice A n d, .slice (some ⟨g, 0, none⟩) 2 2] w (Gives r w) := by
  have hadd : ∀ j, (⟨g, 0, none⟩ : Addr).add j = ⟨g, j, none⟩ := by intro j; unfold Addr.add; split <;> simp_all
  have Hadd := Lib.hid hadd
  clear hadd
  have C1 := Lib.hid c1
  have C2 := Lib.hid c2
  have HS := Lib.hid hS
  have E1 := Lib.hid e1
  have E2 := Lib.hid e2
  have H0 := Lib.hid (show FormAt w A n d m r 0 A n d w from ⟨Up.refl w, .inl ⟨rfl, rfl, rfl, rfl⟩⟩)
  clear c1 c2 hS e1 e2
  go_enter Tryz.func55, Tryz.ntmps55
  go_wp2_with fail
  go_loopg [0, 9] 2 (fun gg s0 s9 wr => ∃ (j : Nat) (A0 : Option Addr) (n0 d0 : Nat), j + gg = 2 ∧ s0 = .slice A0 n0 d0 ∧ s9 = .int .i64 (j : Int) ∧ Hid (FormAt w A n d m r j A0 n0 d0 wr))
  case atStart => exact ⟨0, A, n, d, rfl, rfl, rfl, H0⟩
  case round =>
    clear H0
    obtain ⟨j, A0, n0, d0, hjg, rfl, rfl, HF⟩ := hrel
    obtain ⟨hu, ⟨rfl, rfl, rfl, rfl⟩ | ⟨rfl, rfl, hr⟩ | ⟨rfl, rfl, hr⟩⟩ := HF.out
    · have hc := (HS.out.up hu).cell _ rfl 0 _ rfl
      rw [Hadd.out] at hc
      have ev := E1.out
      clear C2 HF E2
      go_wp2_with fail
      refine (C1.out _ hu).mono ?_
      rintro e w1 ⟨B1, b1, rfl, hO, hu1⟩
      have HR := Lib.hid (own_read hO)
      clear hO
      go_wp2_with fail
      go_roundg 1
      case measure => omega
      case rel => exact ⟨1, B1, m.length, b1, rfl, rfl, by go_num, Lib.hid ⟨hu.trans hu1, .inr (.inl ⟨rfl, rfl, HR.out⟩)⟩⟩
    · have hc := (HS.out.up hu).cell _ rfl 1 _ rfl
      rw [Hadd.out] at hc
      have ev := E2.out
      have C2x := Lib.hid (C2.out A0 d0 wr hu hr)
      clear C1 C2 HF E1 hr
      go_wp2_with fail
      refine C2x.out.mono ?_
      rintro e w1 ⟨B1, b1, rfl, hO, hu1⟩
      have HR := Lib.hid (own_base hO hu.size)
      clear hO
      go_wp2_with fail
      go_roundg 0
      case measure => omega
      case rel => exact ⟨2, B1, r.length, b1, rfl, rfl, by go_num, Lib.hid ⟨hu.trans hu1, .inr (.inr ⟨rfl, rfl, HR.out⟩)⟩⟩
    · have HG := Lib.hid (show Gives r w (.returned (.slice A0 r.length d0)) wr from ⟨A0, d0, rfl, hr, hu⟩)
      clear C1 C2 HF E1 E2 hr
      go_wp2_with fail
      go_ret
      exact HG.out

theorem rd_steps (w : World) (a b : Value) (T : TypeId) : Rd (w.alloc (.cells #[a, b] T)) (some ⟨w.heap.size, 0, none⟩) 2 [a, b] where
  fit := by simp
  max := by unfold maxLen; omega
  ad _ := ⟨_, rfl, by show w.heap.size < (w.heap.push _).size; simp⟩
  nil h := by cases h
  cell := by
    intro x hx j u hj
    injection hx with e
    subst e
    have hadd : (⟨w.heap.size, 0, none⟩ : Addr).add j = ⟨w.heap.size, j, none⟩ := by unfold Addr.add; split <;> simp_all
    rw [hadd, World.cell?_alloc_mark]
    simpa using hj

set_option maxRecDepth 100000 in
theorem nfd_prog (A : Option Addr) (n d : Nat) (l : List Nat) (w : World) (hr : HRows w) (h : Rd w A d (us l)) (hn : n = l.length) (hmax : n ≤ 8000) (hlt : ∀ c ∈ l, c < 4294967296) :
    Calls Tryz.prog 56 #[.slice A n d] w (Gives (nfdL l) w) := by
  have hfl := flat_full_len l
  have C := Lib.hid (fun (w1 : World) (u : Up w w1) => form_prog 69 70 (enters_of Tryz.func69 (by kernel_rfl) rfl) (enters_of Tryz.func70 (by kernel_rfl) rfl) A n d (l.flatMap full) (nfdL l) w1.heap.size
    (w1.alloc (.cells #[.func (.func 69) #[] #[], .func (.func 70) #[] #[]] 74)) (rd_steps _ _ _ _)
    (fun w' u' => list_prog A n d l w' (hr.up (u.trans (((Up.refl w1).alloc _).trans u'))) (h.up (u.trans (((Up.refl w1).alloc _).trans u'))) hn (by omega))
    (fun B e w' _ hB => order_prog B _ e (l.flatMap full) w' hB rfl (by omega)))
  clear h hn hfl hlt hr
  generalize nfdL l = D at *
  go_enter Tryz.func56, Tryz.ntmps56
  go_wp2_with fail
  refine (C.out _ (Up.refl _)).mono ?_
  rintro e w2 ⟨B2, d2, rfl, hO2, hu2⟩
  have hG : Gives D w (.returned (.slice B2 D.length d2)) w2 := ⟨B2, d2, rfl, own_base hO2 ((Up.refl w).alloc _).size, ((Up.refl w).alloc _).trans hu2⟩
  clear hO2
  go_wp2_with fail
  go_ret
  exact hG

set_option maxRecDepth 100000 in
theorem nfc_prog (A : Option Addr) (n d : Nat) (l : List Nat) (w : World) (hr : HRows w) (h : Rd w A d (us l)) (hn : n = l.length) (hmax : n ≤ 8000) (hlt : ∀ c ∈ l, c < 4294967296) :
    Calls Tryz.prog 39 #[.slice A n d] w (Gives (nfcL l) w) := by
  have hfl := nfdL_len l
  have C := Lib.hid (fun (w1 : World) (u : Up w w1) => form_prog 56 57 (enters_of Tryz.func56 (by kernel_rfl) rfl) (enters_of Tryz.func57 (by kernel_rfl) rfl) A n d (nfdL l) (nfcL l) w1.heap.size
    (w1.alloc (.cells #[.func (.func 56) #[] #[], .func (.func 57) #[] #[]] 74)) (rd_steps _ _ _ _)
    (fun w' u' => nfd_prog A n d l w' (hr.up (u.trans (((Up.refl w1).alloc _).trans u'))) (h.up (u.trans (((Up.refl w1).alloc _).trans u'))) hn hmax hlt)
    (fun B e w' u' hB => compose_prog B _ e (nfdL l) w' (hr.up (u.trans (((Up.refl w1).alloc _).trans u'))) hB rfl (by omega)))
  clear h hn hfl hlt hr
  generalize nfcL l = D at *
  go_enter Tryz.func39, Tryz.ntmps39
  go_wp2_with fail
  refine (C.out _ (Up.refl _)).mono ?_
  rintro e w2 ⟨B2, d2, rfl, hO2, hu2⟩
  have hG : Gives D w (.returned (.slice B2 D.length d2)) w2 := ⟨B2, d2, rfl, own_base hO2 ((Up.refl w).alloc _).size, ((Up.refl w).alloc _).trans hu2⟩
  clear hO2
  go_wp2_with fail
  go_ret
  exact hG

set_option maxRecDepth 100000 in
theorem ntext_prog (A : Option Addr) (n d : Nat) (l : List UInt8) (w : World) (hr : HRows w) (h : Rd w A d (bs l)) (hn : n = l.length) (hmax : n ≤ 4000) :
    Calls Tryz.prog 25 #[.slice A n d] w (TextP l w) := by
  have c1 := Lib.hid (codes_code A d n l w h hn (by omega))
  have HN := Lib.hid (fun B e (cs : List Nat) w' (u : Up w w') (hB : Rd w' B e (us cs)) (hc : cs.length ≤ 8000) (hcs : U.Cps cs) => nfc_prog B cs.length e cs w' (hr.up u) hB rfl hc (fun x hx => by have := (okC_cp x).2 (hcs x hx); have := (okC_iff x).1 this; omega))
  have HB := Lib.hid (fun B e (cs : List Nat) w' (hr : Rd w' B e (us cs)) (hc : cs.length ≤ 100000) => bytes_code B e cs.length cs w' hr rfl (by omega))
  have Hn := Lib.hid hn
  clear h hn hr
  go_enter Tryz.func25, Tryz.ntmps25
  go_wp2_with fail
  refine c1.out.mono ?_
  rintro e w1 ⟨hu1, ⟨cs, B, b, hcs, hl, rfl, hrd⟩ | ⟨hft, rfl⟩⟩
  · have hcl : cs.length ≤ n := by
      have := U.encs_len_le cs hcs
      rw [← hl, ← Hn.out] at this
      exact this
    have C2 := Lib.hid (HN.out B b cs w1 hu1 hrd (by omega) hcs)
    have hfl := nfcL_len cs
    have hF := Lib.hid (nfcL_cps hcs)
    have Hl := Lib.hid hl
    have Hcs := Lib.hid hcs
    have hfl2 : (nfcL cs).length ≤ 100000 := by omega
    have HBx := Lib.hid (fun B e w' hr => HB.out B e (nfcL cs) w' hr hfl2)
    have Hgoal := Lib.hid (fun (B : Option Addr) (c : Nat) (w' : World) (u : Up w w') (hr : w'.ownsRow w.heap.size 5 1 (.slice B (U.encs (nfcL cs)).length c) (U.encs (nfcL cs)).length (bs (U.encs (nfcL cs)))) =>
      (⟨u, .inl ⟨cs, B, c, hcs, hl, rfl, hr⟩⟩ : TextP l w (.returned (.tuple #[.slice B (U.encs (nfcL cs)).length c, .int .i64 0])) w'))
    clear c1 HN HB hrd hfl hl hcs hfl2 Hl Hcs
    generalize nfcL cs = F at *
    go_wp2_with fail
    refine C2.out.mono ?_
    rintro e w2 ⟨B2, d2, rfl, hO2, hu2⟩
    have C3 := Lib.hid (HBx.out B2 d2 w2 (own_read hO2))
    clear hO2 C2 HBx
    go_wp2_with fail
    refine C3.out.mono ?_
    intro e w3 hp
    obtain ⟨hu3, A3, c3, rfl, hr3⟩ := BytesP.own hF.out hp
    have hr3 := own_base hr3 (Nat.le_trans hu1.size hu2.size)
    have hG := Hgoal.out A3 c3 w3 ((hu1.trans hu2).trans hu3) hr3
    clear hp C3 Hgoal
    go_wp2_with fail
    go_ret2
    exact hG
  · have hG : TextP l w (.returned (.tuple #[.slice none 0 0, .int .i64 6])) w1 := ⟨hu1, .inr ⟨hft, none, 0, rfl, Rd.empty w1⟩⟩
    clear c1 HN HB
    go_wp2_with fail
    go_ret2
    exact hG

set_option maxRecDepth 100000 in
theorem nsafe_prog (A : Option Addr) (n d : Nat) (l : List Nat) (w : World) (h : Rd w A d (us l)) (hn : n = l.length) (hmax : n ≤ 8000) :
    Calls Tryz.prog 29 #[.slice A n d] w fun e w' => e = .returned (.int .i64 (safeOf l : Int)) ∧ Up w w' := by
  have HS := Lib.hid starts_prog
  have H := Lib.hid h
  have Hn := Lib.hid hn
  have hf := h.fit
  rw [us_len, ← hn] at hf
  have HF := Lib.hid (fun i => show safeF l (i + 1) = if startOf (l[i + 1]?.getD 0) = true then i + 1 else safeF l i from rfl)
  have hz : Hid (safeF l 0 = 0) := Lib.hid rfl
  have hso : Hid (safeOf l = safeF l (n - 1)) := Lib.hid (by unfold safeOf; rw [hn])
  clear h hn
  generalize safeOf l = s at *
  have hst : Hid (∀ i (h : i < l.length), startOf (l[i]?.getD 0) = startOf l[i]) := Lib.hid (fun i h => by rw [List.getElem?_eq_getElem h]; rfl)
  by_cases hn0 : n = 0
  · have hs0 : s = 0 := by rw [hso.out, hn0]; exact hz.out
    subst hn0
    subst hs0
    clear HF hz hso hst
    go_enter Tryz.func29, Tryz.ntmps29
    go_wp2_with fail
    go_loopw [3] (fun i wr => i = .int .i64 (-1) ∧ Up w wr) (fun _ _ => 0)
    case atStart => exact ⟨rfl, Up.refl _⟩
    case round =>
      obtain ⟨rfl, hu⟩ := hrel
      go_wp2_with fail
      go_ret
      exact ⟨rfl, hu⟩
  obtain ⟨q, rfl⟩ : ∃ q, n = q + 1 := ⟨n - 1, by omega⟩
  rw [Nat.add_sub_cancel] at hso
  go_enter Tryz.func29, Tryz.ntmps29
  go_wp2_with fail
  go_loopw [3] (fun i wr => ∃ k : Nat, k ≤ q ∧ i = .int .i64 (k : Int) ∧ Hid (s = safeF l k) ∧ Up w wr) (fun i _ => (intOf i).toNat)
  case atStart => exact ⟨q, Nat.le_refl _, rfl, hso, Up.refl _⟩
  case round =>
    obtain ⟨k, hk, rfl, hsk, hu⟩ := hrel
    by_cases hk0 : k = 0
    · subst hk0
      have hs0 : Hid (s = 0) := Lib.hid (hsk.out.trans hz.out)
      clear HF hz hso hst hsk
      go_wp2_with fail
      go_ret
      exact ⟨by rw [hs0.out]; rfl, hu⟩
    · obtain ⟨j, rfl⟩ : ∃ j, k = j + 1 := ⟨k - 1, by omega⟩
      have hjl : j + 1 < l.length := by rw [← Hn.out]; omega
      obtain ⟨a, rfl, _⟩ := H.out.ad (by omega)
      have hcell : wr.cell? ⟨a.block, a.off + (j + 1), none⟩ = some (.int .u32 (l[j + 1] : Int)) := (H.out.up hu).cell a rfl (j + 1) _ (us_get l (j + 1) hjl)
      have hS := hsk.out
      rw [HF.out j, hst.out (j + 1) hjl] at hS
      have C1 := Lib.hid (HS.out l[j + 1])
      clear HF hst hsk
      generalize l[j + 1] = x at *
      cases hx : startOf x with
      | true =>
        rw [hx, if_pos rfl] at hS
        rw [hx] at C1
        have HS2 := Lib.hid hS
        clear hS hx hk0
        go_wp2_with fail
        refine (C1.out _).mono ?_
        rintro e w1 ⟨rfl, hu1⟩
        go_wp2_with fail
        go_ret
        exact ⟨by rw [HS2.out]; simp, hu.trans hu1⟩
      | false =>
        rw [hx, if_neg (by decide)] at hS
        rw [hx] at C1
        have HS2 := Lib.hid hS
        clear hS hx hk0
        go_wp2_with fail
        refine (C1.out _).mono ?_
        rintro e w1 ⟨rfl, hu1⟩
        go_wp2_with fail
        go_roundw
        case rel => exact ⟨j, by omega, by go_num, HS2, hu.trans hu1⟩
        case measure => simp [intOf]

end Go.Proofs.YtipemmjbgegmfaaGreatDoor
