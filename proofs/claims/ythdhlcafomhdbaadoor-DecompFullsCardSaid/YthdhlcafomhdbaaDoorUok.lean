/- What the program's seven functions answer. -/
import Derived.Test.YthdhlcafomhdbaaDoorUpt
import Derived.Test.YthdhlcafomhdbaaDoorUav
import Derived.OwnWalk
namespace Go.Proofs.YthdhlcafomhdbaaDoor
open Go.RowKit

theorem dec_find (c b : Nat) (w : World) (hc : At w b (.int .u32 (c : Int))) :
    Calls Tryd.prog 38 #[.string decS, .int .i64 16, .func (.func 39) #[] #[.pointer (some ⟨b, 0, none⟩)]] w fun e w' =>
      ((∃ r, r < 2061 ∧ e = .returned (.tuple #[.string (rowS decS 16 r), .bool true]) ∧ rowOf c = r + 1) ∨ (e = .returned (.tuple #[.string ⟨#[]⟩, .bool false]) ∧ rowOf c = 0)) ∧ Up w w' := by
  have eg : ∀ args w, (callFunc 39 args).run Tryd.prog w = .ok (.enter 39 args) w := enters_of Tryd.func39 (by kernel_rfl) rfl
  have hf := find_prog decS 16 2061 39 #[.pointer (some ⟨b, 0, none⟩)] eg (by rw [dec_sz]; decide) (by rw [dec_sz]; rfl) (by decide) (by rw [dec_sz]; decide) (by decide)
    (fun i => cmp3 c (key decS.data.toList 16 i)) w
    (Lib.hid fun i hi w1 u => decomp_step (rowS decS 16 i) (key decS.data.toList 16 i) c b
      (Lib.hid (by rw [key_fld]; exact row_chr decS (k := 0) dec_hex hi (by decide) (by decide) (by decide) (by rw [dec_sz]; decide))) w1 (hc.up u))
    (Lib.hid (dec_mono c))
  refine Calls.mono hf ?_
  rintro e w' ⟨r, ok, rfl, hP, hu⟩
  refine ⟨?_, hu⟩
  rcases dec_found hP with ⟨rfl, h1, h2⟩ | ⟨rfl, h2⟩
  · exact .inl ⟨r, h1, rfl, h2⟩
  · exact .inr ⟨rfl, h2⟩

end Go.Proofs.YthdhlcafomhdbaaDoor
