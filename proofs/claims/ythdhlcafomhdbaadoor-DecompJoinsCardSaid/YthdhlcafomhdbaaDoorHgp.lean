/- Syllables, plain: what they are split into, put and joined of. -/
import Derived.Test.YthdhlcafomhdbaaDoorRows
import Derived.WalkKit
namespace Go.Proofs.YthdhlcafomhdbaaDoor

def isL (c : Nat) : Bool := decide (4352 ≤ c) && decide (c < 4371)
def isV (c : Nat) : Bool := decide (4449 ≤ c) && decide (c < 4470)
def isT (c : Nat) : Bool := decide (4520 ≤ c) && decide (c < 4547)
def isS (c : Nat) : Bool := decide (44032 ≤ c) && decide (c ≤ 55203)
theorem isL_iff (c : Nat) : isL c = true ↔ 4352 ≤ c ∧ c < 4371 := by unfold isL; simp
theorem isV_iff (c : Nat) : isV c = true ↔ 4449 ≤ c ∧ c < 4470 := by unfold isV; simp
theorem isT_iff (c : Nat) : isT c = true ↔ 4520 ≤ c ∧ c < 4547 := by unfold isT; simp
theorem isS_iff (c : Nat) : isS c = true ↔ 44032 ≤ c ∧ c ≤ 55203 := by unfold isS; simp
def splL (c : Nat) : Nat := if isS c = true then 4352 + (c - 44032) / 28 / 21 else 0
def splV (c : Nat) : Nat := if isS c = true then 4449 + (c - 44032) / 28 % 21 else 0
def splT (c : Nat) : Nat := if isS c = true then (if (c - 44032) % 28 = 0 then 0 else 4519 + (c - 44032) % 28) else 0
def putOk (l v t : Nat) : Bool := isL l && isV v && (decide (t = 0) || isT t)
def putC (l v t : Nat) : Nat := if putOk l v t = true then 44032 + (21 * (l - 4352) + (v - 4449)) * 28 + (if t = 0 then 0 else t - 4519) else 0
def putE (l v t : Nat) : Nat := if putOk l v t = true then 0 else 2
def lv (a b : Nat) : Bool := isL a && isV b
def lvt (a b : Nat) : Bool := isS a && decide (splT a = 0) && isT b
def joinOk (a b : Nat) : Bool := lv a b || lvt a b
def joinC (a b : Nat) : Nat := if lv a b = true then putC a b 0 else if lvt a b = true then putC (splL a) (splV a) b else 0

theorem putOk_iff (l v t : Nat) : putOk l v t = true ↔ (4352 ≤ l ∧ l < 4371) ∧ (4449 ≤ v ∧ v < 4470) ∧ (t = 0 ∨ 4520 ≤ t ∧ t < 4547) := by
  unfold putOk
  rw [Bool.and_eq_true, Bool.and_eq_true, Bool.or_eq_true, isL_iff, isV_iff, isT_iff, decide_eq_true_eq, and_assoc]
theorem lv_iff (a b : Nat) : lv a b = true ↔ (4352 ≤ a ∧ a < 4371) ∧ (4449 ≤ b ∧ b < 4470) := by unfold lv; rw [Bool.and_eq_true, isL_iff, isV_iff]
theorem splT_zero (c : Nat) (h : isS c = true) : splT c = 0 ↔ (c - 44032) % 28 = 0 := by
  unfold splT; rw [if_pos h]; split <;> omega
theorem lvt_iff (a b : Nat) : lvt a b = true ↔ (44032 ≤ a ∧ a ≤ 55203) ∧ (a - 44032) % 28 = 0 ∧ (4520 ≤ b ∧ b < 4547) := by
  unfold lvt
  rw [Bool.and_eq_true, Bool.and_eq_true, isT_iff, decide_eq_true_eq]
  constructor
  · rintro ⟨⟨h1, h2⟩, h3⟩; exact ⟨(isS_iff a).1 h1, (splT_zero a h1).1 h2, h3⟩
  · rintro ⟨h1, h2, h3⟩; exact ⟨⟨(isS_iff a).2 h1, (splT_zero a ((isS_iff a).2 h1)).2 h2⟩, h3⟩

end Go.Proofs.YthdhlcafomhdbaaDoor
