/- The document's Put: the bytes of a code point. -/
import Derived.Test.YthgjjlllifcegaaPre
namespace Go.Proofs.Ythgjjlllifcegaa
open Go.RowKit

/-- What the document's Put leaves. -/
def RPut (c : Nat) (w : World) (e : Ending) (w' : World) : Prop :=
  ∃ A, e = .returned (.slice A (U.wid c) (U.wid c)) ∧ Rd w' A (U.wid c) (bs (U.enc c)) ∧ Up w w'

theorem RPut.mk {c : Nat} (hc : U.isCp c) {w : World} {v : Value} {n : Nat} (cs : Array Value) (t : TypeId) (hn : n = U.wid c) (hv : v = .slice (some ⟨w.heap.size, 0, none⟩) n n) (hcs : bs (U.enc c) = cs.toList) :
    RPut c w (.returned v) (w.alloc (.cells cs t)) := by
  subst hn hv
  have := U.wid_le c
  exact ⟨_, rfl, Rd.new w cs t hcs (by rw [bs_len, U.enc_len hc]) (by unfold maxLen; omega), (Up.refl w).alloc _⟩

theorem u8_val (n : Nat) (h : n < 256) : Value.int .u8 ((UInt8.ofNat n).toNat : Int) = .int .u8 (n : Int) := by rw [U.toNat_of n h]

end Go.Proofs.Ythgjjlllifcegaa
