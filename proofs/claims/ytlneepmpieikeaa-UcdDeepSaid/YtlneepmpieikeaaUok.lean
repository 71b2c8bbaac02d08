/- What the program's seven functions answer. -/
import Derived.Test.YtlneepmpieikeaaUpt
import Derived.Test.YtlneepmpieikeaaUav
import Derived.OwnWalk
namespace Go.Proofs.Ytlneepmpieikeaa
open Go.RowKit

theorem par_sz2 : parS.size = 14115 := by rw [size_of]; exact par_size

theorem class_find (c b : Nat) (w : World) (hc : At w b (.int .u32 (c : Int))) :
    Calls Try.prog 25 #[.string clsS, .int .i64 12, .func (.func 26) #[] #[.pointer (some ⟨b, 0, none⟩)]] w fun e w' =>
      ((∃ r, r < 388 ∧ e = .returned (.tuple #[.string (rowS clsS 12 r), .bool true]) ∧ clsOf c = fld clsS.data.toList 12 r 10 2) ∨ (e = .returned (.tuple #[.string ⟨#[]⟩, .bool false]) ∧ clsOf c = 0)) ∧ Up w w' := by
  have eg : ∀ args w, (callFunc 26 args).run Try.prog w = .ok (.enter 26 args) w := enters_of Try.func26 (by kernel_rfl) rfl
  have hf := find_prog clsS 12 388 26 #[.pointer (some ⟨b, 0, none⟩)] eg (by rw [cls_sz]; decide) (by rw [cls_sz]; rfl) (by decide) (by rw [cls_sz]; decide) (by decide)
    (fun i => inR (key clsS.data.toList 12 i) (fld clsS.data.toList 12 i 5 5) c) w
    (Lib.hid fun i hi w1 u => class_step (rowS clsS 12 i) (key clsS.data.toList 12 i) (fld clsS.data.toList 12 i 5 5) c b
      (Lib.hid (by rw [key_fld]; exact row_chr clsS (k := 0) cls_hex hi (by decide) (by decide) (by decide) (by rw [cls_sz]; decide)))
      (Lib.hid (row_chr clsS (k := 1) cls_hex hi (by decide) (by decide) (by decide) (by rw [cls_sz]; decide))) w1 (hc.up u))
    (Lib.hid (cls_mono c))
  refine Calls.mono hf ?_
  rintro e w' ⟨r, ok, rfl, hP, hu⟩
  refine ⟨?_, hu⟩
  rcases cls_found hP with ⟨rfl, h1, h2⟩ | ⟨rfl, h2⟩
  · exact .inl ⟨r, h1, rfl, h2⟩
  · exact .inr ⟨rfl, h2⟩

theorem dec_find (c b : Nat) (w : World) (hc : At w b (.int .u32 (c : Int))) :
    Calls Try.prog 25 #[.string decS, .int .i64 16, .func (.func 42) #[] #[.pointer (some ⟨b, 0, none⟩)]] w fun e w' =>
      ((∃ r, r < 2061 ∧ e = .returned (.tuple #[.string (rowS decS 16 r), .bool true]) ∧ rowOf c = r + 1) ∨ (e = .returned (.tuple #[.string ⟨#[]⟩, .bool false]) ∧ rowOf c = 0)) ∧ Up w w' := by
  have eg : ∀ args w, (callFunc 42 args).run Try.prog w = .ok (.enter 42 args) w := enters_of Try.func42 (by kernel_rfl) rfl
  have hf := find_prog decS 16 2061 42 #[.pointer (some ⟨b, 0, none⟩)] eg (by rw [dec_sz]; decide) (by rw [dec_sz]; rfl) (by decide) (by rw [dec_sz]; decide) (by decide)
    (fun i => cmp3 c (key decS.data.toList 16 i)) w
    (Lib.hid fun i hi w1 u => decomp_step (rowS decS 16 i) (key decS.data.toList 16 i) c b
      (Lib.hid (by rw [key_fld]; exact row_chr decS (k := 0) dec_hex hi (by decide) (by decide) (by decide) (by rw [dec_sz]; decide))) w1 (hc.up u))
    (Lib.hid (dec_mono c))
  refine Calls.mono hf ?_
  rintro e w' ⟨r, ok, rfl, hP, hu⟩
  refine ⟨?_, hu⟩
  rcases dec_found hP with ⟨rfl, h1, h2⟩ | ⟨rfl, h2⟩
  · exact .inl ⟨r, h1, rfl, h2⟩
  · exact .inr ⟨rfl, h2⟩

theorem par_find (a b ba bb : Nat) (w : World) (ha : At w ba (.int .u32 (a : Int))) (hb : At w bb (.int .u32 (b : Int))) :
    Calls Try.prog 25 #[.string parS, .int .i64 15, .func (.func 33) #[] #[.pointer (some ⟨ba, 0, none⟩), .pointer (some ⟨bb, 0, none⟩)]] w fun e w' =>
      ((∃ r, r < 941 ∧ e = .returned (.tuple #[.string (rowS parS 15 r), .bool true]) ∧ PairP parL a b (fld parS.data.toList 15 r 10 5) true) ∨ (e = .returned (.tuple #[.string ⟨#[]⟩, .bool false]) ∧ PairP parL a b 0 false)) ∧ Up w w' := by
  have eg : ∀ args w, (callFunc 33 args).run Try.prog w = .ok (.enter 33 args) w := enters_of Try.func33 (by kernel_rfl) rfl
  have hf := find_prog parS 15 941 33 #[.pointer (some ⟨ba, 0, none⟩), .pointer (some ⟨bb, 0, none⟩)] eg (by rw [par_sz2]; decide) (by rw [par_sz2]; rfl) (by decide) (by rw [par_sz2]; decide) (by decide)
    (fun i => cmp2 a b (key parS.data.toList 15 i) (fld parS.data.toList 15 i 5 5)) w
    (Lib.hid fun i hi w1 u => pair_step (rowS parS 15 i) (key parS.data.toList 15 i) (fld parS.data.toList 15 i 5 5) a b ba bb
      (Lib.hid (by rw [key_fld]; exact row_chr parS (k := 0) par_hex hi (by decide) (by decide) (by decide) (by rw [par_sz2]; decide)))
      (Lib.hid (row_chr parS (k := 1) par_hex hi (by decide) (by decide) (by decide) (by rw [par_sz2]; decide))) w1 (ha.up u) (hb.up u))
    (Lib.hid (par_mono a b))
  refine Calls.mono hf ?_
  rintro e w' ⟨r, ok, rfl, hP, hu⟩
  refine ⟨?_, hu⟩
  rcases par_found hP with ⟨rfl, h1, h2⟩ | ⟨rfl, h2⟩
  · exact .inl ⟨r, h1, rfl, h2⟩
  · exact .inr ⟨rfl, h2⟩

end Go.Proofs.Ytlneepmpieikeaa
