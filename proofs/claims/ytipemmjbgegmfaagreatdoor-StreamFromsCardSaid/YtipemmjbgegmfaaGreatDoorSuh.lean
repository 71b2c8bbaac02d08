/- The statements of stage 9: the sum of however many pieces. -/
import Derived.Test.YtipemmjbgegmfaaGreatDoorSux
import Derived.Test.YtipemmjbgegmfaaGreatDoorSca
namespace Go.Proofs.YtipemmjbgegmfaaGreatDoor
open Go.RowKit

/-- append of bytes that read so. -/
theorem app_bs {w : World} {base : Nat} {v : Value} {n : Nat} {xs : List UInt8} (hown : w.ownsRow base 5 1 v n (bs xs)) {A : Option Addr} {m c : Nat} {ys : List UInt8} (hr : Rd w A c (bs ys)) (hm : m = ys.length) (hb : n + m ≤ 30000000000000) (hbase : base ≤ w.heap.size) :
    ∃ B d w', (Builtin.append_ #[31, 31] 31 #[v, .slice A m c]).run Tryz.prog w = .ok (.slice B (n + m) d) w' ∧ w'.ownsRow base 5 1 (.slice B (n + m) d) (n + m) (bs (xs ++ ys)) ∧ (∀ u, base = u.heap.size → Up u w → Up u w') := by
  obtain ⟨v', w4, hap, hown4, hg, _⟩ := elB.app (m := m) w 31 hown hr (by rw [bs_len]; exact hm) (one_bs ys) (by omega) (by omega) hbase
  rw [show bs xs ++ bs ys = bs (xs ++ ys) from by unfold bs; rw [List.map_append]] at hown4
  obtain ⟨B, d, rfl, _⟩ := own_rd hown4
  exact ⟨B, d, w4, hap, hown4, fun u hu hup => hup.own hg (fun g hg => by have := (hown.lt g hg).1; omega)⟩

/-- What stood in W stands. -/
theorem kept_up (W : World) : Kept (fun a b => Up W a → Up W b) := ⟨fun _ h => h, fun _ _ _ h1 h2 h => h2 (h1 h)⟩

end Go.Proofs.YtipemmjbgegmfaaGreatDoor
