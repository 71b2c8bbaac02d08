/- The document's Is; what is asked of the program's order. -/
import Derived.Test.YthkbjbbffkgpfaaOrw
import Derived.Test.YthkbjbbffkgpfaaSmg
import Derived.Test.YthkbjbbffkgpfaaKs
namespace Go.Proofs.Ythkbjbbffkgpfaa
open Go.RowKit Go.Proofs.Ythkbjbbffkgpfaa.Ordr

set_option maxRecDepth 100000 in
set_option maxHeartbeats 1000000 in
theorem is_ref (A : Option Addr) (n d : Nat) (l : List Nat) (w : World) (h : Rd w A d (us l)) (hn : n = l.length) (hmax : n ≤ 100000) :
    Calls Try.prog 15 #[.slice A n d] w fun e w' => e = .returned (.bool (ordB clsOf l)) ∧ Up w w' := by
  have HC := Lib.hid class_ref
  have H := Lib.hid h
  have Hn := Lib.hid hn
  have hf := h.fit
  rw [us_len, ← hn] at hf
  have HS := Lib.hid (fun i (hi : i + 1 < l.length) => ordB_step clsOf hi)
  have HL := Lib.hid (fun i (hi : ordB clsOf (l.take i) = false) => show ordB clsOf l = false from by
    rw [Bool.eq_false_iff] at hi ⊢
    intro e
    rw [← List.take_append_drop i l] at e
    exact hi (ordB_left clsOf e))
  have h0 : ordB clsOf (l.take 1) = true := by
    cases l with
    | nil => rfl
    | cons x t => rfl
  clear h hn
  generalize hcls : clsOf = cls at *
  clear hcls
  go_enter Try.func15, Try.ntmps15
  go_wp2_with fail
  go_loopw [3] (fun i wr => ∃ k : Nat, k ≤ n ∧ i = .int .i64 ((k : Int) + 1) ∧ Hid (ordB cls (l.take (k + 1)) = true) ∧ Up w wr) (fun i _ => n + 1 - (intOf i).toNat)
  case atStart => exact ⟨0, by omega, rfl, Lib.hid h0, Up.refl w⟩
  case round =>
    obtain ⟨k, hk, rfl, HI, hu⟩ := hrel
    clear h0
    by_cases hlt : k + 1 < n
    · have hkl : k + 1 < l.length := by rw [← Hn.out]; exact hlt
      obtain ⟨a, rfl, _⟩ := H.out.ad (by omega)
      have hcell : wr.cell? ⟨a.block, a.off + (k + 1), none⟩ = some (.int .u32 (l[k + 1] : Int)) := (H.out.up hu).cell a rfl (k + 1) _ (us_get l (k + 1) hkl)
      have hcell0 : ∀ w2, Up wr w2 → w2.cell? (a.add k) = some (.int .u32 (l[k] : Int)) := fun w2 u => (H.out.up (hu.trans u)).cell a rfl k _ (us_get l k (by omega))
      have hS := HS.out k hkl
      have HN := Lib.hid (HL.out (k + 2))
      rw [HI.out, Bool.and_true] at hS
      have HSx := Lib.hid hS
      have HC1 := Lib.hid (HC.out l[k + 1])
      have HC0 := Lib.hid (HC.out l[k])
      clear HS HL hS
      generalize l[k + 1] = x at *
      generalize l[k] = y at *
      by_cases hc0 : cls x = 0
      · have hcb : ((cls x : Int) != 0) = false := by simp [hc0]
        have hB : ordB cls (l.take (k + 2)) = true := by rw [HSx.out, hc0]; rfl
        have HB := Lib.hid hB
        clear hB HSx HC0 hcell0
        generalize cls x = c at *
        go_wp2_with fail
        refine (HC1.out _).mono ?_
        rintro e w2 ⟨rfl, hu2⟩
        go_wp2_with fail
        go_roundw
        case rel => exact ⟨k + 1, by omega, by go_num, HB, hu.trans hu2⟩
        case measure => simp [intOf]; omega
      · have hcb : ((cls x : Int) != 0) = true := by simp; omega
        by_cases hle : cls y ≤ cls x
        · have hB : ordB cls (l.take (k + 2)) = true := by rw [HSx.out, decide_eq_true hle, Bool.or_true]
          have HB := Lib.hid hB
          clear hB HSx
          generalize cls x = c at *
          generalize cls y = c2 at *
          go_wp2_with fail
          refine (HC1.out _).mono ?_
          rintro e w2 ⟨rfl, hu2⟩
          have hc0' := hcell0 w2 hu2
          go_wp2_with fail
          refine (HC0.out _).mono ?_
          rintro e w3 ⟨rfl, hu3⟩
          go_wp2_with fail
          go_roundw
          case rel => exact ⟨k + 1, by omega, by go_num, HB, (hu.trans hu2).trans hu3⟩
          case measure => simp [intOf]; omega
        · have hB : ordB cls l = false := HN.out (by rw [HSx.out, decide_eq_false hle, Bool.or_false]; rw [beq_eq_false_iff_ne]; exact hc0)
          have HB := Lib.hid hB
          clear hB HSx HN
          generalize cls x = c at *
          generalize cls y = c2 at *
          go_wp2_with fail
          refine (HC1.out _).mono ?_
          rintro e w2 ⟨rfl, hu2⟩
          have hc0' := hcell0 w2 hu2
          go_wp2_with fail
          refine (HC0.out _).mono ?_
          rintro e w3 ⟨rfl, hu3⟩
          go_wp2_with fail
          go_ret
          exact ⟨by rw [HB.out]; rfl, (hu.trans hu2).trans hu3⟩
    · have e : l.take (k + 1) = l := List.take_of_length_le (by rw [← Hn.out]; omega)
      have hB := HI.out
      rw [e] at hB
      have HB := Lib.hid hB
      clear e hB HI HS HL
      go_wp2_with fail
      go_ret
      exact ⟨by rw [HB.out]; rfl, hu⟩

/-- What the program's functions answer. -/
structure OrderOk : Prop where
  order : ∀ (A : Option Addr) (n d : Nat) (l : List Nat) (w : World), Rd w A d (us l) → n = l.length → n ≤ 100000 → (∀ c ∈ l, c < 4294967296) → Calls Try.prog 9 #[.slice A n d] w (Gives (ord clsOf l) w)
  is : ∀ (A : Option Addr) (n d : Nat) (l : List Nat) (w : World), Rd w A d (us l) → n = l.length → n ≤ 100000 → (∀ c ∈ l, c < 4294967296) → Calls Try.prog 14 #[.slice A n d] w fun e w' => e = .returned (.bool (ordB clsOf l)) ∧ Up w w'
  classes : ∀ (A : Option Addr) (n d : Nat) (l : List Nat) (w : World), Rd w A d (us l) → n = l.length → n ≤ 100000 → (∀ c ∈ l, c < 4294967296) → Calls Try.prog 12 #[.slice A n d] w (GivesK (l.map clsOf) w)

end Go.Proofs.Ythkbjbbffkgpfaa
