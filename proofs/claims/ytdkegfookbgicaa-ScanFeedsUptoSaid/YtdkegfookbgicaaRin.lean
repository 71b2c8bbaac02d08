/- An argument that is a slice of slices of bytes, opened. -/
import Derived.Test.YtdkegfookbgicaaFds
import Derived.Test.YtdkegfookbgicaaArgs
import Derived.Deep.Matrix
namespace Go.Proofs.Ytdkegfookbgicaa
open Go.RowKit Go.Deep Go.ChangeShapes Go.WideShapes Go.ChangeAt

theorem bulk_rows {H : Type} (y : Nat → List UInt8) (D : Nat → DataW H) : ∀ rs : List Nat, (∀ r ∈ rs, (y r).length ≤ Rows.uptoBulk (D r)) → ((rs.map y).flatten).length ≤ Rows.uptoBulkAll (rs.map D)
  | [], _ => Nat.zero_le _
  | r :: rs, h => by
    have h1 := h r List.mem_cons_self
    have h2 := bulk_rows y D rs (fun r' hr' => h r' (List.mem_cons_of_mem _ hr'))
    simp only [List.map_cons, List.flatten_cons, List.length_append, Rows.uptoBulkAll]
    omega

theorem rows_open {H : Type} {enc : TypeId × Value → H} {W : World} {held : Bool} {fuel : Nat} {cs : List Value} {d : DataW H} {p : List MemPlace} (h : DataW.trod enc Try.prog W 0 (fun _ => true) held fuel 25 cs = some (d, p)) {O : Option Addr} {len cap : Nat} (hcs : cs = [.slice O len cap]) (hb : Rows.uptoBulk d ≤ 1048576) :
    ∃ LL : List (List UInt8), LL.length = len ∧ len ≤ cap ∧ cap ≤ 9223372036854775807 ∧ RowsIn W O LL ∧ LL.flatten.length ≤ 1048576 := by
  rcases open_int_rows Try.underlying25 Try.underlying22 Try.underlying5 (by kernel_rfl) (by kernel_rfl) h with ⟨h1, _⟩ | ⟨a, len', cap', A, L, C, Z, h1, _, hl, hm, hx, hrows⟩
  · rw [hcs] at h1
    simp at h1
    obtain ⟨rfl, rfl, rfl⟩ := h1
    exact ⟨[], rfl, Nat.le_refl _, by omega, fun i hi => absurd hi (Nat.not_lt_zero _), by simp⟩
  · rw [hcs] at h1
    simp at h1
    obtain ⟨rfl, rfl, rfl⟩ := h1
    have each : ∀ r, r < len → ∃ l : List UInt8, l.length = L r ∧ Rd W (A r) (C r) (bs l) := fun r hr => by
      obtain ⟨_, hlc, hcm, hz, hwz, hn, hs⟩ := hrows r (by omega)
      cases hA : A r with
      | none =>
        have hc := hn hA
        refine ⟨[], by show 0 = L r; omega, ?_⟩
        rw [hc]
        exact Rd.zero W none
      | some a' =>
        obtain ⟨_, hcell⟩ := hs a' hA
        exact rd_u8 hlc hcm hz (fun i hi => hcell i (by omega)) hwz
    obtain ⟨y, hy⟩ := choose_lt each
    have hd : d = _ := (Prod.mk.inj hx).1
    refine ⟨(List.range len).map y, by rw [List.length_map, List.length_range], hl, by unfold maxLen at hm; omega, fun i hi => ?_, ?_⟩
    · rw [List.length_map, List.length_range] at hi
      obtain ⟨hcell, _⟩ := hrows i (by omega)
      obtain ⟨hyl, hyr⟩ := hy i hi
      have e : ((List.range len).map y)[i]'(by rw [List.length_map, List.length_range]; exact hi) = y i := by simp
      rw [e, hyl]
      refine ⟨a, A i, C i, rfl, ?_, hcell, hyr⟩
      have := World.block_lt_of_cell? W _ hcell
      rwa [addr_block] at this
    · rw [hd] at hb
      simp only [Rows.uptoBulk] at hb
      have := bulk_rows (H := H) y (fun r => intRow .u8 (A r) (L r) (Z r)) (List.range len) (fun r hr => by
        have hr := List.mem_range.1 hr
        obtain ⟨_, hlc, hcm, hz, hwz, hn, hs⟩ := hrows r (by omega)
        rw [(hy r hr).1]
        unfold intRow
        cases hA : A r with
        | none =>
          have hc := hn hA
          have := bulk_one (H := H) .nil
          show L r ≤ Rows.uptoBulk .nil
          omega
        | some a' =>
          have h2 := bulk_slice (H := H) (lits .u8 ((Z r).take (L r))) (lits .u8 ((Z r).drop (L r)))
          have h3 : (lits (H := H) .u8 ((Z r).take (L r))).length = L r := by simp only [lits, List.length_map, List.length_take]; omega
          show L r ≤ Rows.uptoBulk (.slice _ _)
          omega)
      omega

end Go.Proofs.Ytdkegfookbgicaa
