/- Words for memory: a slice that reads as a list of cells; how it stays while memory is only made; bytes and strings; cuts. -/
import Derived.Test.YtdkegfookbgicaaWidth
import Derived.Test.YtdkegfookbgicaaUtf
import Derived.Test.YtdkegfookbgicaaPi
import Derived.Below
import Derived.WalkLawsBesides
import Derived.Laws.IdiomStrings
import Derived.Laws.OwnMore
import Derived.Deep.Draws
namespace Go.Proofs.Ytdkegfookbgicaa
open Go.RowKit

theorem addr_block (a : Addr) (n : Nat) : (a.add n).block = a.block := by
  unfold Addr.add
  by_cases h : n = 0
  · rw [if_pos h]
  · rw [if_neg h]
theorem addr_add (a : Addr) (i j : Nat) : (a.add i).add j = a.add (i + j) := by
  unfold Addr.add
  by_cases hi : i = 0
  · subst hi; simp
  · by_cases hj : j = 0
    · subst hj; simp [hi]
    · simp [hi, hj, Nat.add_assoc]

/-- The slice at A, of xs.length elements and room for c, reads as the cells xs. -/
structure Rd (w : World) (A : Option Addr) (c : Nat) (xs : List Value) : Prop where
  fit : xs.length ≤ c
  max : c ≤ maxLen
  ad : 0 < c → ∃ a, A = some a ∧ a.block < w.heap.size
  nil : c = 0 → A = none ∨ ∃ a, A = some a
  cell : ∀ a, A = some a → ∀ j u, xs[j]? = some u → w.cell? (a.add j) = some u

theorem Rd.up {w w' : World} {A : Option Addr} {c : Nat} {xs : List Value} (h : Rd w A c xs) (hu : Up w w') : Rd w' A c xs := by
  refine ⟨h.fit, h.max, fun hc => ?_, h.nil, fun a ha j u hj => ?_⟩
  · obtain ⟨a, ha, hb⟩ := h.ad hc
    exact ⟨a, ha, Nat.lt_of_lt_of_le hb hu.size⟩
  · have hlen : 0 < c := by
      have := (List.getElem?_eq_some_iff.1 hj).1
      have := h.fit
      omega
    obtain ⟨a', ha', hb⟩ := h.ad hlen
    rw [ha] at ha'
    injection ha' with e
    subst e
    exact (Below.cell hu (p := a.add j) (by rw [addr_block]; exact hb)).trans (h.cell a ha j u hj)

/-- The same elements with less room. -/
theorem Rd.room {w : World} {A : Option Addr} {c c' : Nat} {xs : List Value} (h : Rd w A c xs) (h1 : xs.length ≤ c') (h2 : c' ≤ c) (_h3 : 0 < c') : Rd w A c' xs :=
  ⟨h1, by have := h.max; omega, fun _ => h.ad (by omega), fun hc => by omega, h.cell⟩

theorem Rd.empty (w : World) : Rd w none 0 [] := ⟨Nat.le_refl _, Nat.zero_le _, fun h => absurd h (by omega), fun _ => .inl rfl, fun a ha => by cases ha⟩

/-- No elements: wherever. -/
theorem Rd.zero (w : World) (A : Option Addr) : Rd w A 0 [] :=
  ⟨Nat.le_refl _, Nat.zero_le _, fun h => absurd h (by omega), fun _ => by cases A <;> simp, fun a _ j u hu => by simp at hu⟩

/-- A block that was just made. -/
theorem Rd.new (w : World) (cs : Array Value) (t : TypeId) {n : Nat} {xs : List Value} (h : xs = cs.toList) (hn : n = xs.length) (hm : n ≤ maxLen) :
    Rd (w.alloc (.cells cs t)) (some ⟨w.heap.size, 0, none⟩) n xs := by
  subst h
  refine ⟨by omega, hm, fun _ => ⟨_, rfl, by simp⟩, fun _ => .inr ⟨_, rfl⟩, fun a ha j u hu => ?_⟩
  injection ha with e
  subst e
  have hadd : (⟨w.heap.size, 0, none⟩ : Addr).add j = ⟨w.heap.size, j, none⟩ := by unfold Addr.add; split <;> simp_all
  rw [hadd, show (Obj.cells cs t) = Obj.cells cs t (0, 0) from rfl, World.cell?_alloc_mark]
  simpa using hu

/-- Cells of bytes. -/
def bs (l : List UInt8) : List Value := l.map fun b => .int .u8 (b.toNat : Int)
theorem bs_len (l : List UInt8) : (bs l).length = l.length := by simp [bs]
theorem bs_get (l : List UInt8) (j : Nat) (h : j < l.length) : (bs l)[j]? = some (.int .u8 (l[j].toNat : Int)) := by
  simp [bs, List.getElem?_eq_getElem h]
theorem bs_drop (l : List UInt8) (k : Nat) : (bs l).drop k = bs (l.drop k) := by simp [bs, List.map_drop]
theorem bs_take (l : List UInt8) (k : Nat) : (bs l).take k = bs (l.take k) := by simp [bs, List.map_take]
theorem bs_append (l m : List UInt8) : bs (l ++ m) = bs l ++ bs m := by simp [bs]

theorem uB : Try.prog.underlying 22 = some (.slice 5) := Try.underlying22
theorem uE : Try.prog.underlying 5 = some (.int .u8) := Try.underlying5
theorem uS : Try.prog.underlying 9 = some .string := Try.underlying9

/-- A text of bytes that read so. -/
theorem Rd.str {w : World} {A : Option Addr} {n c : Nat} {l : List UInt8} (h : Rd w A c (bs l)) (hn : n = l.length) :
    (convert 22 9 (.slice A n c)).run Try.prog w = .ok (.string ⟨l.toArray⟩) w := by
  subst hn
  cases A with
  | none =>
    have hc : c = 0 := by
      rcases Nat.eq_zero_or_pos c with h0 | h0
      · exact h0
      · obtain ⟨a, ha, _⟩ := h.ad h0; cases ha
    have hl : l = [] := by
      have := h.fit
      rw [bs_len] at this
      exact List.eq_nil_of_length_eq_zero (by omega)
    subst hl
    rw [run_convert_bytes_string w 22 9 5 none _ c uB uE uS]
    simp [Conv.bytesToString]
    rfl
  | some a => exact run_convert_bytes_back w 22 9 5 a c l uB uE uS fun j hj => h.cell a rfl j _ (bs_get l j hj)

/-- The bytes of a text: new memory. -/
theorem bytes_of (w : World) (s : ByteArray) (hs : s.size ≤ maxLen) : ∃ c w1, (convert 9 22 (.string s)).run Try.prog w = .ok (.slice (some ⟨w.heap.size, 0, none⟩) s.size c) w1 ∧
    Rd w1 (some ⟨w.heap.size, 0, none⟩) c (bs s.data.toList) ∧ Up w w1 ∧ w.heap.size < w1.heap.size := by
  refine ⟨_, _, run_bytes_of_string w 9 22 5 s uS uB uE, ⟨?_, grownCap_le_maxLen w _ _ _ hs, fun _ => ⟨_, rfl, by simp⟩, fun _ => .inr ⟨_, rfl⟩, ?_⟩, ?_, ?_⟩
  · rw [bs_len]; exact grownCap_ge w _ _ _
  · intro a ha j u hu
    injection ha with e
    subst e
    have hj : j < s.data.toList.length := by have := (List.getElem?_eq_some_iff.1 hu).1; rwa [bs_len] at this
    rw [bs_get _ j hj] at hu
    injection hu with e
    subst e
    have hadd : (⟨w.heap.size, 0, none⟩ : Addr).add j = ⟨w.drew.heap.size, j, none⟩ := by unfold Addr.add; split <;> simp_all
    rw [hadd, World.cell?_alloc_mark]
    exact bytesRow_at s _ j (by simpa using hj)
  · exact ((Up.refl w).drew).alloc _
  · simp

theorem uBe : Try.prog.underlying 22 = some (.slice (Try.prog.elem 22)) := by kernel_rfl
theorem szB (w : World) : (sizeOf (Try.prog.elem 22)).run Try.prog w = .ok 1 w := by kernel_rfl

/-- A part of what reads so. -/
theorem Rd.sub {w : World} {A : Option Addr} {c : Nat} {xs : List Value} (h : Rd w A c xs) {lo hi m : Nat} (h1 : lo ≤ hi) (h2 : hi ≤ xs.length) (h3 : hi ≤ m) (h4 : m ≤ c) :
    Rd w (if m = lo then A else A.map (·.add lo)) (m - lo) ((xs.drop lo).take (hi - lo)) := by
  have hf := h.fit
  refine ⟨by rw [List.length_take, List.length_drop]; omega, by have := h.max; omega, fun hc => ?_, fun _ => ?_, fun a ha j u hu => ?_⟩
  · obtain ⟨a, rfl, hb⟩ := h.ad (by omega)
    rw [if_neg (by omega)]
    exact ⟨_, rfl, by rw [addr_block]; exact hb⟩
  · cases hA : (if m = lo then A else A.map (·.add lo)) with
    | none => exact .inl rfl
    | some a => exact .inr ⟨a, rfl⟩
  · have hj : j < hi - lo := by
      have := (List.getElem?_eq_some_iff.1 hu).1
      rw [List.length_take] at this
      omega
    rw [if_neg (by omega)] at ha
    obtain ⟨a0, rfl, _⟩ := h.ad (by omega)
    injection ha with e
    subst e
    rw [addr_add]
    refine h.cell a0 rfl _ u ?_
    rw [List.getElem?_take, if_pos hj, List.getElem?_drop] at hu
    exact hu

/-- The first k, with room for no more: as the walk writes 'b[:k:k]'. -/
theorem Rd.pre {w : World} {A : Option Addr} {c : Nat} {l : List UInt8} (h : Rd w A c (bs l)) {k : Nat} (hk : k ≤ l.length) : Rd w A k (bs (l.take k)) := by
  have hf := h.fit
  rw [bs_len] at hf
  refine ⟨by rw [bs_len, List.length_take]; omega, by have := h.max; omega, fun hc => h.ad (by omega), fun _ => by cases A <;> simp, fun a ha j u hu => h.cell a ha j u ?_⟩
  have hj : j < k := by
    have := (List.getElem?_eq_some_iff.1 hu).1
    rw [bs_len, List.length_take] at this
    omega
  rwa [← bs_take, List.getElem?_take, if_pos hj] at hu

/-- The first k, with the same room: as the walk writes 'b[:k]'. -/
theorem Rd.pfx {w : World} {A : Option Addr} {c : Nat} {l : List UInt8} (h : Rd w A c (bs l)) (k : Nat) : Rd w A c (bs (l.take k)) := by
  have hf := h.fit
  rw [bs_len] at hf
  refine ⟨by rw [bs_len, List.length_take]; omega, h.max, h.ad, h.nil, fun a ha j u hu => h.cell a ha j u ?_⟩
  have hj : j < k := by
    have := (List.getElem?_eq_some_iff.1 hu).1
    rw [bs_len, List.length_take] at this
    omega
  rwa [← bs_take, List.getElem?_take, if_pos hj] at hu

/-- 'b[:k:k]' of bytes: what it yields in whatever world, and how that reads. -/
theorem Rd.head3 {w : World} {A : Option Addr} {c : Nat} {l : List UInt8} (h : Rd w A c (bs l)) (n k : Nat) (hn : n = l.length) (hk : k ≤ n) :
    ∃ A', (∀ w', (Instr.slice 22 (.slice A n c) none (some (.int .i64 k)) (some (.int .i64 k))).run Try.prog w' = .ok (.slice A' k k) w') ∧ Rd w A' k (bs (l.take k)) := by
  have hf := h.fit
  rw [bs_len] at hf
  refine ⟨if k = 0 then A else A.map (·.add (0 * 1)), fun w' => ?_, ?_⟩
  · rw [run_slice_hm w' 22 A n c uBe .i64 .i64 k k (by omega) (by omega) (by omega), szB]
    simp [sliced]
  · have := h.sub (lo := 0) (hi := k) (m := k) (by omega) (by rw [bs_len]; omega) (by omega) (by omega)
    rw [List.drop_zero, bs_take] at this
    simpa using this

/-- 'b[k:]' of bytes. -/
theorem Rd.tail {w : World} {A : Option Addr} {c : Nat} {l : List UInt8} (h : Rd w A c (bs l)) (n k : Nat) (hn : n = l.length) (hk : k ≤ n) :
    ∃ A', (∀ w', (Instr.slice 22 (.slice A n c) (some (.int .i64 k)) none none).run Try.prog w' = .ok (.slice A' (n - k) (c - k)) w') ∧ Rd w A' (c - k) (bs (l.drop k)) := by
  have hf := h.fit
  rw [bs_len] at hf
  refine ⟨if c = k then A else A.map (·.add (k * 1)), fun w' => ?_, ?_⟩
  · rw [run_slice_l w' 22 A n c uBe .i64 k (by omega) (by omega), szB]
    simp [sliced]
  · have := h.sub (lo := k) (hi := n) (m := c) hk (by rw [bs_len]; omega) (by omega) (by omega)
    rw [bs_drop, bs_take, List.take_of_length_le (by rw [List.length_drop]; omega)] at this
    simpa using this

/-- 'b[:k]' of bytes. -/
theorem Rd.head {w : World} {A : Option Addr} {c : Nat} {l : List UInt8} (h : Rd w A c (bs l)) (n k : Nat) (hn : n = l.length) (hk : k ≤ n) :
    ∃ A', (∀ w', (Instr.slice 22 (.slice A n c) none (some (.int .i64 k)) none).run Try.prog w' = .ok (.slice A' k c) w') ∧ Rd w A' c (bs (l.take k)) := by
  have hf := h.fit
  rw [bs_len] at hf
  refine ⟨if c = 0 then A else A.map (·.add (0 * 1)), fun w' => ?_, ?_⟩
  · rw [run_slice_h w' 22 A n c uBe .i64 k (by omega) (by omega), szB]
    simp [sliced]
  · have := h.sub (lo := 0) (hi := k) (m := c) (by omega) (by rw [bs_len]; omega) (by omega) (by omega)
    rw [List.drop_zero, bs_take] at this
    simpa using this

end Go.Proofs.Ytdkegfookbgicaa
