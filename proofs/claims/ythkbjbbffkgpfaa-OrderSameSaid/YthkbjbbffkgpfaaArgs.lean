/- Arguments that are slices of numbers, opened: they read as a list. -/
import Derived.Test.YthkbjbbffkgpfaaMem
import Derived.SizedLaws
import Derived.ChangeOld
namespace Go.Proofs.Ythkbjbbffkgpfaa
open Go.RowKit

/-- Cells of numbers of 32 bits. -/
def us (l : List Nat) : List Value := l.map fun (n : Nat) => Value.int .u32 (n : Int)
theorem us_len (l : List Nat) : (us l).length = l.length := by simp [us]
theorem us_get (l : List Nat) (j : Nat) (h : j < l.length) : (us l)[j]? = some (.int .u32 (l[j] : Int)) := by simp [us, List.getElem?_eq_getElem h]
theorem us_take (l : List Nat) (k : Nat) : (us l).take k = us (l.take k) := by simp [us, List.map_take]
theorem us_drop (l : List Nat) (k : Nat) : (us l).drop k = us (l.drop k) := by simp [us, List.map_drop]
theorem us_append (l m : List Nat) : us (l ++ m) = us l ++ us m := by simp [us]

theorem wf_u8 {n : Int} (h : (Lit.int .u8 n).wf = true) : 0 ≤ n ∧ n < 256 := by
  have : 0 ≤ n ∧ n ≤ 255 := by simpa [Lit.wf, IntKind.min, IntKind.max, IntKind.signed, IntKind.bits] using h
  omega
theorem wf_u32 {n : Int} (h : (Lit.int .u32 n).wf = true) : 0 ≤ n ∧ n < 4294967296 := by
  have : 0 ≤ n ∧ n ≤ 4294967295 := by simpa [Lit.wf, IntKind.min, IntKind.max, IntKind.signed, IntKind.bits] using h
  omega
theorem wf_u16 {n : Int} (h : (Lit.int .u16 n).wf = true) : 0 ≤ n ∧ n < 65536 := by
  have : 0 ≤ n ∧ n ≤ 65535 := by simpa [Lit.wf, IntKind.min, IntKind.max, IntKind.signed, IntKind.bits] using h
  omega

section
variable {w : World} {x : Addr} {len cap : Nat} {zs : List Int} {k : IntKind}

theorem rd_row (hl : len ≤ cap) (hm : cap ≤ maxLen) (hz : zs.length = cap) (hcell : ∀ i, i < zs.length → w.cell? (x.add i) = some (.int k (zs.getD i 0))) :
    Rd w (some x) cap ((zs.take len).map (Value.int k)) := by
  refine ⟨by rw [List.length_map, List.length_take]; omega, hm, fun h => ⟨x, rfl, ?_⟩, fun _ => .inr ⟨x, rfl⟩, fun a ha j u hu => ?_⟩
  · have := World.block_lt_of_cell? w _ (hcell 0 (by omega))
    rwa [addr_block] at this
  · injection ha with e
    subst e
    have hj := (List.getElem?_eq_some_iff.1 hu).1
    rw [List.length_map, List.length_take] at hj
    rw [hcell j (by omega), ← hu, List.getElem?_map, List.getElem?_take, if_pos (by omega), List.getElem?_eq_getElem (by omega)]
    simp [List.getD, List.getElem?_eq_getElem (show j < zs.length by omega)]

theorem rd_u8 (hl : len ≤ cap) (hm : cap ≤ maxLen) (hz : zs.length = cap) (hcell : ∀ i, i < zs.length → w.cell? (x.add i) = some (.int .u8 (zs.getD i 0)))
    (hwz : ∀ n ∈ zs, (Lit.int .u8 n).wf = true) : ∃ l : List UInt8, l.length = len ∧ Rd w (some x) cap (bs l) := by
  have h := rd_row hl hm hz hcell
  refine ⟨(zs.take len).map fun n => UInt8.ofNat n.toNat, by rw [List.length_map, List.length_take]; omega, ?_⟩
  have e : bs ((zs.take len).map fun n => UInt8.ofNat n.toNat) = (zs.take len).map (Value.int .u8) := by
    unfold bs
    rw [List.map_map]
    refine List.map_congr_left fun n hn => ?_
    have := wf_u8 (hwz n (List.mem_of_mem_take hn))
    show Value.int .u8 ((UInt8.ofNat n.toNat).toNat : Int) = .int .u8 n
    rw [U.toNat_of _ (by omega), Int.toNat_of_nonneg this.1]
  rw [e]
  exact h

theorem rd_u32 (hl : len ≤ cap) (hm : cap ≤ maxLen) (hz : zs.length = cap) (hcell : ∀ i, i < zs.length → w.cell? (x.add i) = some (.int .u32 (zs.getD i 0)))
    (hwz : ∀ n ∈ zs, (Lit.int .u32 n).wf = true) : ∃ l : List Nat, l.length = len ∧ (∀ c ∈ l, c < 4294967296) ∧ Rd w (some x) cap (us l) := by
  have h := rd_row hl hm hz hcell
  refine ⟨(zs.take len).map Int.toNat, by rw [List.length_map, List.length_take]; omega, fun c hc => ?_, ?_⟩
  · obtain ⟨n, hn, rfl⟩ := List.mem_map.1 hc
    have := wf_u32 (hwz n (List.mem_of_mem_take hn))
    omega
  · have e : us ((zs.take len).map Int.toNat) = (zs.take len).map (Value.int .u32) := by
      unfold us
      rw [List.map_map]
      refine List.map_congr_left fun n hn => ?_
      have := wf_u32 (hwz n (List.mem_of_mem_take hn))
      show Value.int .u32 (n.toNat : Int) = .int .u32 n
      rw [Int.toNat_of_nonneg this.1]
    rw [e]
    exact h
end

/-! ### What a bound on the bulk gives -/
theorem bulk_one {H : Type} (d : DataW H) : 1 ≤ Rows.uptoBulk d := by
  cases d with
  | lit l => cases l <;> simp [Rows.uptoBulk]
  | nil => simp [Rows.uptoBulk]
  | ptr d => simp [Rows.uptoBulk]
  | slice elems spare => simp [Rows.uptoBulk]
  | agg parts => simp [Rows.uptoBulk]
  | iface t d => simp [Rows.uptoBulk]
  | map entries => simp [Rows.uptoBulk]
  | held h => simp [Rows.uptoBulk]
theorem bulk_part {H : Type} {d : DataW H} {l : List (DataW H)} (h : d ∈ l) : Rows.uptoBulk d ≤ Rows.uptoBulkAll l := by
  induction l with
  | nil => cases h
  | cons x r ih =>
    simp only [Rows.uptoBulkAll]
    rcases List.mem_cons.1 h with e | e
    · subst e; omega
    · have := ih e; omega
theorem bulk_len {H : Type} (l : List (DataW H)) : l.length ≤ Rows.uptoBulkAll l := by
  induction l with
  | nil => simp [Rows.uptoBulkAll]
  | cons x r ih => have := bulk_one x; simp only [Rows.uptoBulkAll, List.length_cons]; omega
theorem bulk_slice {H : Type} (elems spare : List (DataW H)) : elems.length + spare.length + 1 ≤ Rows.uptoBulk (.slice elems spare) := by
  have h1 := bulk_len elems
  have h2 := bulk_len spare
  simp only [Rows.uptoBulk]
  omega

end Go.Proofs.Ythkbjbbffkgpfaa
