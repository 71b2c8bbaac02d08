/- Words for memory: a slice that reads as a list of cells; how it stays while memory is only made; bytes and strings; cuts. -/
import Derived.Test.YthkbjbbffkgpfaaWidth
import Derived.Test.YthkbjbbffkgpfaaUtf
import Derived.Test.YthkbjbbffkgpfaaPi
import Derived.Below
import Derived.WalkLawsBesides
import Derived.Laws.IdiomStrings
import Derived.Laws.OwnMore
import Derived.Deep.Draws
namespace Go.Proofs.Ythkbjbbffkgpfaa
open Go.RowKit

theorem addr_block (a : Addr) (n : Nat) : (a.add n).block = a.block := by
  unfold Addr.add
  by_cases h : n = 0
  · rw [if_pos h]
  · rw [if_neg h]
theorem addr_add (a : Addr) (i j : Nat) : (a.add i).add j = a.add (i + j) := by
  unfold Addr.add
  by_cases hi : i = 0
  · subst hi; simp
  · by_cases hj : j = 0
    · subst hj; simp [hi]
    · simp [hi, hj, Nat.add_assoc]

/-- The slice at A, of xs.length elements and room for c, reads as the cells xs. -/
structure Rd (w : World) (A : Option Addr) (c : Nat) (xs : List Value) : Prop where
  fit : xs.length ≤ c
  max : c ≤ maxLen
  ad : 0 < c → ∃ a, A = some a ∧ a.block < w.heap.size
  nil : c = 0 → A = none ∨ ∃ a, A = some a
  cell : ∀ a, A = some a → ∀ j u, xs[j]? = some u → w.cell? (a.add j) = some u

theorem Rd.up {w w' : World} {A : Option Addr} {c : Nat} {xs : List Value} (h : Rd w A c xs) (hu : Up w w') : Rd w' A c xs := by
  refine ⟨h.fit, h.max, fun hc => ?_, h.nil, fun a ha j u hj => ?_⟩
  · obtain ⟨a, ha, hb⟩ := h.ad hc
    exact ⟨a, ha, Nat.lt_of_lt_of_le hb hu.size⟩
  · have hlen : 0 < c := by
      have := (List.getElem?_eq_some_iff.1 hj).1
      have := h.fit
      omega
    obtain ⟨a', ha', hb⟩ := h.ad hlen
    rw [ha] at ha'
    injection ha' with e
    subst e
    exact (Below.cell hu (p := a.add j) (by rw [addr_block]; exact hb)).trans (h.cell a ha j u hj)

/-- The same elements with less room. -/
theorem Rd.room {w : World} {A : Option Addr} {c c' : Nat} {xs : List Value} (h : Rd w A c xs) (h1 : xs.length ≤ c') (h2 : c' ≤ c) (_h3 : 0 < c') : Rd w A c' xs :=
  ⟨h1, by have := h.max; omega, fun _ => h.ad (by omega), fun hc => by omega, h.cell⟩

theorem Rd.empty (w : World) : Rd w none 0 [] := ⟨Nat.le_refl _, Nat.zero_le _, fun h => absurd h (by omega), fun _ => .inl rfl, fun a ha => by cases ha⟩

/-- No elements: wherever. -/
theorem Rd.zero (w : World) (A : Option Addr) : Rd w A 0 [] :=
  ⟨Nat.le_refl _, Nat.zero_le _, fun h => absurd h (by omega), fun _ => by cases A <;> simp, fun a _ j u hu => by simp at hu⟩

/-- A block that was just made. -/
theorem Rd.new (w : World) (cs : Array Value) (t : TypeId) {n : Nat} {xs : List Value} (h : xs = cs.toList) (hn : n = xs.length) (hm : n ≤ maxLen) :
    Rd (w.alloc (.cells cs t)) (some ⟨w.heap.size, 0, none⟩) n xs := by
  subst h
  refine ⟨by omega, hm, fun _ => ⟨_, rfl, by simp⟩, fun _ => .inr ⟨_, rfl⟩, fun a ha j u hu => ?_⟩
  injection ha with e
  subst e
  have hadd : (⟨w.heap.size, 0, none⟩ : Addr).add j = ⟨w.heap.size, j, none⟩ := by unfold Addr.add; split <;> simp_all
  rw [hadd, show (Obj.cells cs t) = Obj.cells cs t (0, 0) from rfl, World.cell?_alloc_mark]
  simpa using hu

/-- Cells of bytes. -/
def bs (l : List UInt8) : List Value := l.map fun b => .int .u8 (b.toNat : Int)
theorem bs_len (l : List UInt8) : (bs l).length = l.length := by simp [bs]
theorem bs_get (l : List UInt8) (j : Nat) (h : j < l.length) : (bs l)[j]? = some (.int .u8 (l[j].toNat : Int)) := by
  simp [bs, List.getElem?_eq_getElem h]
theorem bs_drop (l : List UInt8) (k : Nat) : (bs l).drop k = bs (l.drop k) := by simp [bs, List.map_drop]
theorem bs_take (l : List UInt8) (k : Nat) : (bs l).take k = bs (l.take k) := by simp [bs, List.map_take]
theorem bs_append (l m : List UInt8) : bs (l ++ m) = bs l ++ bs m := by simp [bs]

theorem uE : Try.prog.underlying 5 = some (.int .u8) := Try.underlying5
theorem uS : Try.prog.underlying 9 = some .string := Try.underlying9




/-- A part of what reads so. -/
theorem Rd.sub {w : World} {A : Option Addr} {c : Nat} {xs : List Value} (h : Rd w A c xs) {lo hi m : Nat} (h1 : lo ≤ hi) (h2 : hi ≤ xs.length) (h3 : hi ≤ m) (h4 : m ≤ c) :
    Rd w (if m = lo then A else A.map (·.add lo)) (m - lo) ((xs.drop lo).take (hi - lo)) := by
  have hf := h.fit
  refine ⟨by rw [List.length_take, List.length_drop]; omega, by have := h.max; omega, fun hc => ?_, fun _ => ?_, fun a ha j u hu => ?_⟩
  · obtain ⟨a, rfl, hb⟩ := h.ad (by omega)
    rw [if_neg (by omega)]
    exact ⟨_, rfl, by rw [addr_block]; exact hb⟩
  · cases hA : (if m = lo then A else A.map (·.add lo)) with
    | none => exact .inl rfl
    | some a => exact .inr ⟨a, rfl⟩
  · have hj : j < hi - lo := by
      have := (List.getElem?_eq_some_iff.1 hu).1
      rw [List.length_take] at this
      omega
    rw [if_neg (by omega)] at ha
    obtain ⟨a0, rfl, _⟩ := h.ad (by omega)
    injection ha with e
    subst e
    rw [addr_add]
    refine h.cell a0 rfl _ u ?_
    rw [List.getElem?_take, if_pos hj, List.getElem?_drop] at hu
    exact hu

/-- The first k, with room for no more: as the walk writes 'b[:k:k]'. -/
theorem Rd.pre {w : World} {A : Option Addr} {c : Nat} {l : List UInt8} (h : Rd w A c (bs l)) {k : Nat} (hk : k ≤ l.length) : Rd w A k (bs (l.take k)) := by
  have hf := h.fit
  rw [bs_len] at hf
  refine ⟨by rw [bs_len, List.length_take]; omega, by have := h.max; omega, fun hc => h.ad (by omega), fun _ => by cases A <;> simp, fun a ha j u hu => h.cell a ha j u ?_⟩
  have hj : j < k := by
    have := (List.getElem?_eq_some_iff.1 hu).1
    rw [bs_len, List.length_take] at this
    omega
  rwa [← bs_take, List.getElem?_take, if_pos hj] at hu

/-- The first k, with the same room: as the walk writes 'b[:k]'. -/
theorem Rd.pfx {w : World} {A : Option Addr} {c : Nat} {l : List UInt8} (h : Rd w A c (bs l)) (k : Nat) : Rd w A c (bs (l.take k)) := by
  have hf := h.fit
  rw [bs_len] at hf
  refine ⟨by rw [bs_len, List.length_take]; omega, h.max, h.ad, h.nil, fun a ha j u hu => h.cell a ha j u ?_⟩
  have hj : j < k := by
    have := (List.getElem?_eq_some_iff.1 hu).1
    rw [bs_len, List.length_take] at this
    omega
  rwa [← bs_take, List.getElem?_take, if_pos hj] at hu




end Go.Proofs.Ythkbjbbffkgpfaa
