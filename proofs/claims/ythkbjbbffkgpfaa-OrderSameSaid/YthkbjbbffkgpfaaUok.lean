/- What the program's seven functions answer. -/
import Derived.Test.YthkbjbbffkgpfaaUpt
import Derived.Test.YthkbjbbffkgpfaaUav
import Derived.OwnWalk
namespace Go.Proofs.Ythkbjbbffkgpfaa
open Go.RowKit

theorem class_find (c b : Nat) (w : World) (hc : At w b (.int .u32 (c : Int))) :
    Calls Try.prog 26 #[.string clsS, .int .i64 12, .func (.func 27) #[] #[.pointer (some ⟨b, 0, none⟩)]] w fun e w' =>
      ((∃ r, r < 388 ∧ e = .returned (.tuple #[.string (rowS clsS 12 r), .bool true]) ∧ clsOf c = fld clsS.data.toList 12 r 10 2) ∨ (e = .returned (.tuple #[.string ⟨#[]⟩, .bool false]) ∧ clsOf c = 0)) ∧ Up w w' := by
  have eg : ∀ args w, (callFunc 27 args).run Try.prog w = .ok (.enter 27 args) w := enters_of Try.func27 (by kernel_rfl) rfl
  have hf := find_prog clsS 12 388 27 #[.pointer (some ⟨b, 0, none⟩)] eg (by rw [cls_sz]; decide) (by rw [cls_sz]; rfl) (by decide) (by rw [cls_sz]; decide) (by decide)
    (fun i => inR (key clsS.data.toList 12 i) (fld clsS.data.toList 12 i 5 5) c) w
    (Lib.hid fun i hi w1 u => class_step (rowS clsS 12 i) (key clsS.data.toList 12 i) (fld clsS.data.toList 12 i 5 5) c b
      (Lib.hid (by rw [key_fld]; exact row_chr clsS (k := 0) cls_hex hi (by decide) (by decide) (by decide) (by rw [cls_sz]; decide)))
      (Lib.hid (row_chr clsS (k := 1) cls_hex hi (by decide) (by decide) (by decide) (by rw [cls_sz]; decide))) w1 (hc.up u))
    (Lib.hid (cls_mono c))
  refine Calls.mono hf ?_
  rintro e w' ⟨r, ok, rfl, hP, hu⟩
  refine ⟨?_, hu⟩
  rcases cls_found hP with ⟨rfl, h1, h2⟩ | ⟨rfl, h2⟩
  · exact .inl ⟨r, h1, rfl, h2⟩
  · exact .inr ⟨rfl, h2⟩

end Go.Proofs.Ythkbjbbffkgpfaa
