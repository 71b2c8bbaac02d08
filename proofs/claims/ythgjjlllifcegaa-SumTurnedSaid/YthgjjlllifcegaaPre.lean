/- Small words about widths and sizes. -/
import Derived.Test.YthgjjlllifcegaaBas
import Derived.Outline
namespace Go.Proofs.Ythgjjlllifcegaa
open Go.RowKit

theorem ba_size (s : ByteArray) : s.size = s.data.toList.length := by rw [Array.length_toList]; rfl
theorem wrap32_cp {c : Int} (h0 : 0 ≤ c) (h1 : c ≤ 1114111) : wrap32 c = c := by unfold wrap32; omega
theorem widthI_wid (c : Nat) : widthI (c : Int) = (U.wid c : Int) := by
  unfold widthI U.wid; repeat' split
  all_goals omega

end Go.Proofs.Ythgjjlllifcegaa
