/- The document's composing: what its functions answer. -/
import Derived.Test.YtdhnjfkpehigiaaDoorFur
import Derived.Test.YtdhnjfkpehigiaaDoorHga
import Derived.Test.YtdhnjfkpehigiaaDoorBas
namespace Go.Proofs.YtdhnjfkpehigiaaDoor
open Go.RowKit Go.Proofs.YtdhnjfkpehigiaaDoor.Ordr Go.Proofs.YtdhnjfkpehigiaaDoor.Cmpr

/-- What two are composed to, and whether they are: as a pair of answers. -/
noncomputable def twoC (a b : Nat) : Nat := (twoO a b).getD 0
noncomputable def twoOk (a b : Nat) : Bool := (twoO a b).isSome
theorem two_of_join {a b : Nat} (h : joinOk a b = true) : twoC a b = joinC a b ∧ twoOk a b = true := by
  unfold twoC twoOk
  rw [two_join h]
  exact ⟨rfl, rfl⟩
theorem two_of_pair {a b x : Nat} {ok : Bool} (h : joinOk a b = false) (hp : PairP parL a b x ok) : twoC a b = x ∧ twoOk a b = ok := by
  cases ok with
  | true =>
    unfold twoC twoOk
    rw [two_pair h hp]
    exact ⟨rfl, rfl⟩
  | false =>
    unfold twoC twoOk
    rw [two_none' h hp]
    refine ⟨?_, rfl⟩
    rcases hp with ⟨h1, _⟩ | h1
    · exact Bool.noConfusion h1
    · exact h1.2.1.symm

theorem two_ref (a b : Nat) (w : World) : Calls Tryd.prog 68 #[.int .u32 (a : Int), .int .u32 (b : Int)] w fun e w' =>
    e = .returned (.tuple #[.int .u32 (twoC a b : Int), .bool (twoOk a b)]) ∧ Up w w' := by
  have c1 := Lib.hid (join_ref a b w)
  have c2 := Lib.hid (pair_ref a b w)
  cases hj : joinOk a b with
  | true =>
    obtain ⟨e1, e2⟩ := two_of_join hj
    rw [hj] at c1
    rw [e1, e2]
    clear hj e1 e2 c2
    generalize joinC a b = x at *
    go_enter Tryd.func68, Tryd.ntmps68
    go_wp2_with fail
    refine c1.out.mono ?_
    rintro e w1 ⟨rfl, rfl⟩
    go_wp2_with fail
    go_ret2
    exact ⟨by simp, Up.refl _⟩
  | false =>
    have h2 := Lib.hid (fun x ok => two_of_pair (x := x) (ok := ok) hj)
    rw [hj] at c1
    clear hj
    generalize joinC a b = x at *
    generalize twoC a b = y at *
    generalize twoOk a b = o at *
    go_enter Tryd.func68, Tryd.ntmps68
    go_wp2_with fail
    refine c1.out.mono ?_
    rintro e w1 ⟨rfl, rfl⟩
    go_wp2_with fail
    refine c2.out.mono ?_
    rintro e w1 ⟨z, ok, rfl, hp, hu⟩
    obtain ⟨rfl, rfl⟩ := h2.out z ok hp
    go_wp2_with fail
    go_ret2
    exact ⟨by simp, hu⟩

/-- The place of the last starter. -/
def stOf (σ : St) : Int := match σ.1 with
  | none => -1
  | some (pre, _) => pre.length
theorem stOf_keep (cls : Nat → Nat) (σ : St) (c : Nat) : stOf (keep cls σ c) = if cls c = 0 then ((back σ).length : Int) else stOf σ := by
  obtain ⟨o, mid⟩ := σ
  cases o with
  | none => unfold keep; by_cases h : cls c = 0 <;> simp [h, stOf, back]
  | some p => obtain ⟨pre, s⟩ := p; unfold keep; by_cases h : cls c = 0 <;> simp [h, stOf, back]

set_option maxRecDepth 100000 in
theorem blocked_ref (B : Option Addr) (p d : Nat) (pre mid : List Nat) (s c : Nat) (w : World) (h : Rd w B d (us (back (some (pre, s), mid)).reverse)) (hp : p = (back (some (pre, s), mid)).length) (hmax : p ≤ 100000) :
    Calls Tryd.prog 67 #[.slice B p d, .int .i64 (pre.length : Int), .int .u32 (c : Int)] w fun e w' => e = .returned (.bool (Go.Proofs.YtdhnjfkpehigiaaDoor.Cmpr.blocked clsOf mid c)) ∧ Up w w' := by
  have HC := Lib.hid class_ref
  have hf := h.fit
  rw [us_len, List.length_reverse, ← hp] at hf
  cases mid with
  | nil =>
    have hp1 : p = pre.length + 1 := by rw [hp]; simp [back]
    subst hp1
    clear h hp
    generalize pre.length = q at *
    show Calls _ _ _ _ fun e w' => e = .returned (.bool false) ∧ Up w w'
    go_enter Tryd.func67, Tryd.ntmps67
    go_wp2_with fail
    go_ret
    exact ⟨rfl, Up.refl _⟩
  | cons m mid =>
    obtain ⟨q, rfl⟩ : ∃ q, p = q + 1 := ⟨p - 1, by rw [hp]; simp [back]⟩
    have hq : pre.length < q := by
      have : q + 1 = mid.length + 1 + (pre.length + 1) := by rw [hp]; simp [back]; omega
      omega
    obtain ⟨a, rfl, _⟩ := h.ad (by omega)
    have hcell : ∀ w', Up w w' → w'.cell? (a.add q) = some (.int .u32 (m : Int)) := fun w' u => by
      refine (h.up u).cell a rfl q _ ?_
      have e : (back (some (pre, s), m :: mid)).reverse = (back (some (pre, s), mid)).reverse ++ m :: [] := by simp [back]
      have hl : (back (some (pre, s), mid)).reverse.length = q := by
        have : q + 1 = (back (some (pre, s), mid)).length + 1 := by rw [hp]; simp [back]
        rw [List.length_reverse]; omega
      rw [e, ← hl]
      exact us_mid _ _ m
    have hc0 := hcell w (Up.refl w)
    have hb : Go.Proofs.YtdhnjfkpehigiaaDoor.Cmpr.blocked clsOf (m :: mid) c = (decide (clsOf m = 0) || decide (clsOf c ≤ clsOf m)) := rfl
    rw [hb]
    have C1 := Lib.hid (HC.out m)
    have C2 := Lib.hid (HC.out c)
    have hne : ((pre.length : Int) == (q : Int)) = false := by simp; omega
    clear h hp hb HC hcell hf
    generalize pre.length = r at *
    generalize clsOf m = x at *
    generalize clsOf c = y at *
    by_cases hx : x = 0
    · have hx1 : ((x : Int) == 0) = true := by simp [hx]
      go_enter Tryd.func67, Tryd.ntmps67
      go_wp2_with fail
      refine (C1.out _).mono ?_
      rintro e w1 ⟨rfl, hu⟩
      go_wp2_with fail
      go_ret
      exact ⟨by simp [hx], hu⟩
    · have hx1 : ((x : Int) == 0) = false := by simp; omega
      go_enter Tryd.func67, Tryd.ntmps67
      go_wp2_with fail
      refine (C1.out _).mono ?_
      rintro e w1 ⟨rfl, hu⟩
      go_wp2_with fail
      refine (C2.out _).mono ?_
      rintro e w2 ⟨rfl, hu2⟩
      go_wp2_with fail
      go_ret
      exact ⟨by simp [hx], hu.trans hu2⟩

end Go.Proofs.YtdhnjfkpehigiaaDoor
