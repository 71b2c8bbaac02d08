/- What the tables say of full decompositions, row by row: the tests. -/
import Derived.Test.YthdhlcafomhdbaaDoorFud
namespace Go.Proofs.YthdhlcafomhdbaaDoor
open Go.RowKit

/-- The number in a tree of triples whose first part is x; 0: there is none. -/
def Tr.seek (x : Nat) : Tr → Nat
  | .leaf => 0
  | .node l v r => force (Nat.shiftRight v 50) fun k => bif Nat.beq k x then v else bif Nat.blt x k then l.seek x else r.seek x
theorem Tr.seek_has (x : Nat) : ∀ t : Tr, t.seek x = 0 ∨ (t.has (t.seek x) ∧ Nat.shiftRight (t.seek x) 50 = x)
  | .leaf => .inl rfl
  | .node l v r => by
    unfold Tr.seek
    rw [force_eq]
    cases h1 : Nat.beq (Nat.shiftRight v 50) x with
    | true =>
      rw [cond_true]
      exact .inr ⟨.inl rfl, Nat.eq_of_beq_eq_true h1⟩
    | false =>
      rw [cond_false]
      cases h2 : Nat.blt x (Nat.shiftRight v 50) with
      | true =>
        rw [cond_true]
        rcases Tr.seek_has x l with h | ⟨h, k⟩
        · exact .inl h
        · exact .inr ⟨.inr (.inl h), k⟩
      | false =>
        rw [cond_false]
        rcases Tr.seek_has x r with h | ⟨h, k⟩
        · exact .inl h
        · exact .inr ⟨.inr (.inr h), k⟩
/-- The number in a tree of triples between whose first and second parts x lies. -/
def Tr.seekR (x : Nat) : Tr → Nat
  | .leaf => 0
  | .node l v r => bif Nat.blt x (Nat.shiftRight v 50) then l.seekR x else bif Nat.ble x (Nat.land (Nat.shiftRight v 25) 33554431) then v else r.seekR x
theorem Tr.seekR_has (x : Nat) : ∀ t : Tr, t.seekR x = 0 ∨ (t.has (t.seekR x) ∧ Nat.shiftRight (t.seekR x) 50 ≤ x ∧ x ≤ Nat.land (Nat.shiftRight (t.seekR x) 25) 33554431)
  | .leaf => .inl rfl
  | .node l v r => by
    unfold Tr.seekR
    cases h1 : Nat.blt x (Nat.shiftRight v 50) with
    | true =>
      rw [cond_true]
      rcases Tr.seekR_has x l with h | ⟨h, k⟩
      · exact .inl h
      · exact .inr ⟨.inr (.inl h), k⟩
    | false =>
      rw [cond_false]
      cases h2 : Nat.ble x (Nat.land (Nat.shiftRight v 25) 33554431) with
      | true =>
        rw [cond_true]
        refine .inr ⟨.inl rfl, ?_, Nat.le_of_ble_eq_true h2⟩
        have : ¬ x < Nat.shiftRight v 50 := fun h => by
          have := Nat.ble_eq_true_of_le (show x + 1 ≤ Nat.shiftRight v 50 from h)
          unfold Nat.blt at h1
          rw [show Nat.ble x.succ (Nat.shiftRight v 50) = true from this] at h1
          exact Bool.noConfusion h1
        omega
      | false =>
        rw [cond_false]
        rcases Tr.seekR_has x r with h | ⟨h, k⟩
        · exact .inl h
        · exact .inr ⟨.inr (.inr h), k⟩

def tripA (v : Nat) : Nat := Nat.shiftRight v 50
def tripB (v : Nat) : Nat := Nat.land (Nat.shiftRight v 25) 33554431
def tripC (v : Nat) : Nat := Nat.land v 33554431
theorem trip_A {a b c : Nat} (hb : b < 33554432) (hc : c < 33554432) : tripA (trip a b c) = a := by
  unfold tripA trip
  rw [show Nat.shiftRight ((a * 33554432 + b) * 33554432 + c) 50 = ((a * 33554432 + b) * 33554432 + c) >>> 50 from rfl, Nat.shiftRight_eq_div_pow]
  omega
theorem trip_B {a b c : Nat} (hb : b < 33554432) (hc : c < 33554432) : tripB (trip a b c) = b := by
  unfold tripB trip
  rw [show Nat.land (Nat.shiftRight ((a * 33554432 + b) * 33554432 + c) 25) 33554431 = (((a * 33554432 + b) * 33554432 + c) >>> 25) &&& (2 ^ 25 - 1) from rfl, Nat.shiftRight_eq_div_pow, Nat.and_two_pow_sub_one_eq_mod]
  omega
theorem trip_C {a b c : Nat} (hc : c < 33554432) : tripC (trip a b c) = c := by
  unfold tripC trip
  rw [show Nat.land ((a * 33554432 + b) * 33554432 + c) 33554431 = ((a * 33554432 + b) * 33554432 + c) &&& (2 ^ 25 - 1) from rfl, Nat.and_two_pow_sub_one_eq_mod]
  omega

/-- The first one, the last one of a full decomposition, by the tree; its width. -/
def firstT (K : Nat) (D : Tr) : Nat → Nat → Nat
  | 0, x => x
  | n + 1, x => bif bit K x then force (D.seek x) fun v => force (tripB v) fun a => firstT K D n a else x
def lastT (K : Nat) (D : Tr) : Nat → Nat → Nat
  | 0, x => x
  | n + 1, x => bif bit K x then force (D.seek x) fun v => force (tripC v) fun b => bif Nat.beq b 0 then force (tripB v) fun a => lastT K D n a else b else x
def widU (c : Nat) : Nat := bif Nat.blt c 128 then 1 else bif Nat.blt c 2048 then 2 else bif Nat.blt c 65536 then 3 else 4
def widT (K : Nat) (D : Tr) : Nat → Nat → Nat
  | 0, x => widU x
  | n + 1, x => bif bit K x then force (D.seek x) fun v => force (tripC v) fun b => force (tripB v) fun a => bif Nat.beq b 0 then widT K D n a else Nat.add (widT K D n a) (widU b) else widU x

/-- What is tested of a row. K: the keys; KC: those that are composed again; C: what has a class; S: the second ones; D: the decompositions; T: the classes. -/
def rowOk (K KC C S : Nat) (D T : Tr) (l : List UInt8) : Bool :=
  force (f5 0 l) fun c => force (f5 5 l) fun a => force (f5 10 l) fun b =>
  bif Nat.beq (D.seek c) 0 then false else
  bif plainC c then (bif plainC a then (bif plainC b then
    (bif Nat.ble (widT K D 3 c) (Nat.mul 3 (widU c)) then
      (bif (bif Nat.beq b 0 then true else bif bit C b then force (lastT K D 3 a) fun x => bif bit C x then force (tripC (T.seekR x)) fun k => bif Nat.beq k 0 then false else Nat.ble k (tripC (T.seekR b)) else true else true) then
        (bif isC l then
          (bif bit K a then bit KC a else true) && (bif Nat.ble (widU c) (Nat.add (widU a) (widU b)) then force (firstT K D 3 a) fun f => bif bit C f then false else bif bit S f then false else true else false)
        else true)
      else false)
    else false) else false) else false) else false

end Go.Proofs.YthdhlcafomhdbaaDoor
