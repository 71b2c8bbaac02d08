/- The document's Text; what is asked of the program's norm. -/
import Derived.Test.YtdhnjfkpehigiaaDoorNow
import Derived.Test.YtdhnjfkpehigiaaDoorCodesLaw
namespace Go.Proofs.YtdhnjfkpehigiaaDoor
open Go.RowKit Go.Proofs.YtdhnjfkpehigiaaDoor.Ordr Go.Proofs.YtdhnjfkpehigiaaDoor.Cmpr

theorem okC_cp (c : Nat) : okC c = true ↔ U.isCp c := by
  rw [okC_iff]
  unfold U.isCp
  omega
theorem nfdL_cps {l : List Nat} (h : U.Cps l) : U.Cps (nfdL l) := fun y hy => by
  have hy := (ord_perm clsOf _).mem_iff.1 hy
  obtain ⟨x, hx, hy⟩ := List.mem_flatMap.1 hy
  exact (okC_cp y).1 (full_ok x ((okC_cp x).2 (h x hx)) y hy)
theorem nfcL_cps {l : List Nat} (h : U.Cps l) : U.Cps (nfcL l) := fun y hy => by
  refine back_from clsOf twoO (fun y => U.isCp y) (fun s c x hx => (okC_cp x).1 (two_ok hx)) (nfdL l) (none, []) (nfdL_cps h) (fun y hy => absurd hy (by simp [back])) y ?_
  have hy2 : y ∈ comp clsOf twoO (nfdL l) := hy
  unfold comp at hy2
  exact List.mem_reverse.1 hy2

/-- What a text's composed form is, or that it is not right. -/
def TextP (l : List UInt8) (w : World) (e : Ending) (w' : World) : Prop :=
  Up w w' ∧ ((∃ cs B c, U.Cps cs ∧ l = U.encs cs ∧ e = .returned (.tuple #[.slice B (U.encs (nfcL cs)).length c, .int .i64 0]) ∧ w'.ownsRow w.heap.size 5 1 (.slice B (U.encs (nfcL cs)).length c) (U.encs (nfcL cs)).length (bs (U.encs (nfcL cs)))) ∨
    (0 ≤ U.fault l ∧ ∃ B c, e = .returned (.tuple #[.slice B 0 c, .int .i64 6]) ∧ Rd w' B c []))

set_option maxRecDepth 100000 in
theorem ntext_ref (A : Option Addr) (n d : Nat) (l : List UInt8) (w : World) (h : Rd w A d (bs l)) (hn : n = l.length) (hmax : n ≤ 4000) :
    Calls Tryd.prog 26 #[.slice A n d] w (TextP l w) := by
  have c1 := Lib.hid (codes_ref A d n l w h hn (by omega))
  have HN := Lib.hid (fun B e (cs : List Nat) w' (hr : Rd w' B e (us cs)) (hc : cs.length ≤ 20000) => nfc_ref B cs.length e cs w' hr rfl hc)
  have HB := Lib.hid (fun B e (cs : List Nat) w' (hr : Rd w' B e (us cs)) (hc : cs.length ≤ 100000) => bytes_ref B e cs.length cs w' hr rfl (by omega))
  have Hn := Lib.hid hn
  clear h hn
  go_enter Tryd.func26, Tryd.ntmps26
  go_wp2_with fail
  refine c1.out.mono ?_
  rintro e w1 ⟨hu1, ⟨cs, B, b, hcs, hl, rfl, hrd⟩ | ⟨hft, rfl⟩⟩
  · have hcl : cs.length ≤ n := by
      have := U.encs_len_le cs hcs
      rw [← hl, ← Hn.out] at this
      exact this
    have C2 := Lib.hid (HN.out B b cs w1 hrd (by omega))
    have hfl := nfcL_len cs
    have hF := Lib.hid (nfcL_cps hcs)
    have Hl := Lib.hid hl
    have Hcs := Lib.hid hcs
    have hfl2 : (nfcL cs).length ≤ 100000 := by omega
    have HBx := Lib.hid (fun B e w' hr => HB.out B e (nfcL cs) w' hr hfl2)
    have Hgoal := Lib.hid (fun (B : Option Addr) (c : Nat) (w' : World) (u : Up w w') (hr : w'.ownsRow w.heap.size 5 1 (.slice B (U.encs (nfcL cs)).length c) (U.encs (nfcL cs)).length (bs (U.encs (nfcL cs)))) =>
      (⟨u, .inl ⟨cs, B, c, hcs, hl, rfl, hr⟩⟩ : TextP l w (.returned (.tuple #[.slice B (U.encs (nfcL cs)).length c, .int .i64 0])) w'))
    clear c1 HN HB hrd hfl hl hcs hfl2 Hl Hcs
    generalize nfcL cs = F at *
    go_wp2_with fail
    refine C2.out.mono ?_
    rintro e w2 ⟨B2, d2, rfl, hO2, hu2⟩
    have C3 := Lib.hid (HBx.out B2 d2 w2 (own_read hO2))
    clear hO2 C2 HBx
    go_wp2_with fail
    refine C3.out.mono ?_
    intro e w3 hp
    obtain ⟨hu3, A3, c3, rfl, hr3⟩ := BytesP.own hF.out hp
    have hr3 := own_base hr3 (Nat.le_trans hu1.size hu2.size)
    have hG := Hgoal.out A3 c3 w3 ((hu1.trans hu2).trans hu3) hr3
    clear hp C3 Hgoal
    go_wp2_with fail
    go_ret2
    exact hG
  · have hG : TextP l w (.returned (.tuple #[.slice none 0 0, .int .i64 6])) w1 := ⟨hu1, .inr ⟨hft, none, 0, rfl, Rd.empty w1⟩⟩
    clear c1 HN HB
    go_wp2_with fail
    go_ret2
    exact hG

/-- What the program's functions answer. -/
structure NormOk : Prop where
  nfd : ∀ (A : Option Addr) (n d : Nat) (l : List Nat) (w : World), HRows w → Rd w A d (us l) → n = l.length → n ≤ 8000 → (∀ c ∈ l, c < 4294967296) → Calls Tryd.prog 17 #[.slice A n d] w (Gives (nfdL l) w)
  nfc : ∀ (A : Option Addr) (n d : Nat) (l : List Nat) (w : World), HRows w → Rd w A d (us l) → n = l.length → n ≤ 8000 → (∀ c ∈ l, c < 4294967296) → Calls Tryd.prog 16 #[.slice A n d] w (Gives (nfcL l) w)
  is : ∀ (A : Option Addr) (n d : Nat) (l : List Nat) (w : World), HRows w → Rd w A d (us l) → n = l.length → n ≤ 8000 → (∀ c ∈ l, c < 4294967296) → Calls Tryd.prog 21 #[.slice A n d] w fun e w' => e = .returned (.bool (decide (nfcL l = l))) ∧ Up w w'
  same : ∀ (A B : Option Addr) (n d m e : Nat) (a b : List Nat) (w : World), HRows w → Rd w A d (us a) → Rd w B e (us b) → n = a.length → m = b.length → n ≤ 8000 → m ≤ 8000 → (∀ c ∈ a, c < 4294967296) → (∀ c ∈ b, c < 4294967296) →
    Calls Tryd.prog 23 #[.slice A n d, .slice B m e] w fun e w' => e = .returned (.bool (decide (nfdL a = nfdL b))) ∧ Up w w'
  text : ∀ (A : Option Addr) (n d : Nat) (l : List UInt8) (w : World), HRows w → Rd w A d (bs l) → n = l.length → n ≤ 4000 → Calls Tryd.prog 25 #[.slice A n d] w (TextP l w)
  safe : ∀ (A : Option Addr) (n d : Nat) (l : List Nat) (w : World), HRows w → Rd w A d (us l) → n = l.length → n ≤ 8000 → (∀ c ∈ l, c < 4294967296) → Calls Tryd.prog 27 #[.slice A n d] w fun e w' => e = .returned (.int .i64 (safeOf l : Int)) ∧ Up w w'

end Go.Proofs.YtdhnjfkpehigiaaDoor
