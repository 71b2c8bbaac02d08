/- The statements CodeCodes and CodeBytes: the walks. -/
import Derived.Test.YtdhnjfkpehigiaaDoorCodes
import Derived.Test.YtdhnjfkpehigiaaDoorSame
namespace Go.Proofs.YtdhnjfkpehigiaaDoor
open Go.RowKit

theorem CodesP.yes {cs : List Nat} (h : U.Cps cs) {w : World} {e : Ending} {w' : World} (hp : CodesP (U.encs cs) w e w') :
    Up w w' ∧ ∃ A c, e = .returned (.tuple #[.slice A cs.length c, .int .i64 0]) ∧ Rd w' A c (us cs) := by
  obtain ⟨hu, ⟨ds, A, c, hd, he, h1, h2⟩ | ⟨h1, _⟩⟩ := hp
  · have := U.encs_inj h hd he
    subst this
    exact ⟨hu, A, c, h1, h2⟩
  · rw [U.fault_encs h] at h1
    omega
theorem CodesP.no {l : List UInt8} (h : 0 ≤ U.fault l) {w : World} {e : Ending} {w' : World} (hp : CodesP l w e w') :
    Up w w' ∧ e = .returned (.tuple #[.slice none 0 0, .int .i64 6]) := by
  obtain ⟨hu, ⟨ds, A, c, hd, he, h1, h2⟩ | ⟨_, h2⟩⟩ := hp
  · rw [he, U.fault_encs hd] at h
    omega
  · exact ⟨hu, h2⟩
theorem BytesP.yes {l : List Nat} (h : U.Cps l) {w : World} {e : Ending} {w' : World} (hp : BytesP l w e w') :
    Up w w' ∧ ∃ A c, e = .returned (.tuple #[.slice A (U.encs l).length c, .int .i64 0]) ∧ Rd w' A c (bs (U.encs l)) := by
  obtain ⟨hu, ⟨_, A, c, h1, h2⟩ | ⟨h1, _⟩⟩ := hp
  · exact ⟨hu, A, c, h1, own_read h2⟩
  · exact absurd h h1
theorem BytesP.own {l : List Nat} (h : U.Cps l) {w : World} {e : Ending} {w' : World} (hp : BytesP l w e w') :
    Up w w' ∧ ∃ A c, e = .returned (.tuple #[.slice A (U.encs l).length c, .int .i64 0]) ∧ w'.ownsRow w.heap.size 5 1 (.slice A (U.encs l).length c) (U.encs l).length (bs (U.encs l)) := by
  obtain ⟨hu, ⟨_, h1⟩ | ⟨h1, _⟩⟩ := hp
  · exact ⟨hu, h1⟩
  · exact absurd h h1
theorem BytesP.no {l : List Nat} (h : ¬ U.Cps l) {w : World} {e : Ending} {w' : World} (hp : BytesP l w e w') : Up w w' ∧ e = .returned (.tuple #[.slice none 0 0, .int .i64 2]) := by
  obtain ⟨hu, ⟨h1, _⟩ | ⟨_, h1⟩⟩ := hp
  · exact absurd h1 h
  · exact ⟨hu, h1⟩

end Go.Proofs.YtdhnjfkpehigiaaDoor
