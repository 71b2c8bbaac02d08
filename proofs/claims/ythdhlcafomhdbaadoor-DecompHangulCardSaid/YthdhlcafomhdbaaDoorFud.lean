/- What the table of decompositions alone says: no row tells of syllables and their letters. -/
import Derived.Test.YthdhlcafomhdbaaDoorUcn
namespace Go.Proofs.YthdhlcafomhdbaaDoor
open Go.RowKit

/-- No syllable, no letter of one, and a code point. -/
def plainC (c : Nat) : Bool := bif Nat.ble c 1114111 then bif Nat.ble 44032 c then bif Nat.ble c 57343 then false else true else bif Nat.ble 4352 c then bif Nat.ble c 4607 then false else true else true else false

theorem plain_iff (c : Nat) : plainC c = true ↔ c ≤ 1114111 ∧ ¬ (44032 ≤ c ∧ c ≤ 57343) ∧ ¬ (4352 ≤ c ∧ c ≤ 4607) := by
  unfold plainC
  cases h1 : Nat.ble c 1114111 with
  | false =>
    have : ¬ c ≤ 1114111 := fun h => by rw [Nat.ble_eq_true_of_le h] at h1; exact Bool.noConfusion h1
    simp [this]
  | true =>
    have g1 := Nat.le_of_ble_eq_true h1
    rw [cond_true]
    cases h2 : Nat.ble 44032 c with
    | true =>
      have g2 := Nat.le_of_ble_eq_true h2
      rw [cond_true]
      cases h3 : Nat.ble c 57343 with
      | true =>
        have g3 := Nat.le_of_ble_eq_true h3
        simp; omega
      | false =>
        have g3 : ¬ c ≤ 57343 := fun h => by rw [Nat.ble_eq_true_of_le h] at h3; exact Bool.noConfusion h3
        simp; omega
    | false =>
      have g2 : ¬ 44032 ≤ c := fun h => by rw [Nat.ble_eq_true_of_le h] at h2; exact Bool.noConfusion h2
      rw [cond_false]
      cases h3 : Nat.ble 4352 c with
      | false =>
        have g3 : ¬ 4352 ≤ c := fun h => by rw [Nat.ble_eq_true_of_le h] at h3; exact Bool.noConfusion h3
        simp; omega
      | true =>
        have g3 := Nat.le_of_ble_eq_true h3
        rw [cond_true]
        cases h4 : Nat.ble c 4607 with
        | true =>
          have g4 := Nat.le_of_ble_eq_true h4
          simp; omega
        | false =>
          have g4 : ¬ c ≤ 4607 := fun h => by rw [Nat.ble_eq_true_of_le h] at h4; exact Bool.noConfusion h4
          simp; omega

theorem plain_chk : allRows (fun l => force (f5 0 l) fun c => force (f5 5 l) fun a => force (f5 10 l) fun b => bif plainC c then (bif plainC a then plainC b else false) else false) 16 2061 decS.data.toList = true := by kernel_rfl
structure RowP (x : Nat) : Prop where
  key : plainC x = true
  a : plainC (decA x) = true
  b : plainC (decB x) = true
theorem row_p {x : Nat} (hx : rowOf x ≠ 0) : RowP x := by
  obtain ⟨i, hi, hx1, hx2, hx3, hx4⟩ := row_at hx
  have hr := allRows_at _ 16 2061 _ i plain_chk hi
  simp only [force_eq, hx1, hx2, hx3] at hr
  cases p1 : plainC x with
  | false => rw [p1] at hr; exact Bool.noConfusion hr
  | true =>
  rw [p1, cond_true] at hr
  cases p2 : plainC (decA x) with
  | false => rw [p2] at hr; exact Bool.noConfusion hr
  | true =>
  rw [p2, cond_true] at hr
  exact ⟨p1, p2, hr⟩

end Go.Proofs.YthdhlcafomhdbaaDoor
