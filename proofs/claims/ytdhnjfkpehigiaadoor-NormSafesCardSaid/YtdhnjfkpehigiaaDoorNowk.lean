/- The statements of stage 8: what the rows ask. -/
import Derived.Test.YtdhnjfkpehigiaaDoorNom
import Derived.Test.YtdhnjfkpehigiaaDoorNon
import Derived.Test.YtdhnjfkpehigiaaDoorNop
import Derived.Test.YtdhnjfkpehigiaaDoorNoq
import Derived.Test.YtdhnjfkpehigiaaDoorNor
import Derived.Test.YtdhnjfkpehigiaaDoorLdh
namespace Go.Proofs.YtdhnjfkpehigiaaDoor
open Go.RowKit

theorem norm_forms_walk (H : NormOk) (w : World) (h : HRows w) (A : Option Addr) (n d : Nat) (l : List Nat) (hn : l.length = n) (hr : Rd w A d (us l)) (hl : ∀ c ∈ l, c < 4294967296) (hd : d * 4 ≤ 140737488351232) :
    Calls Tryd.prog 3 #[.slice A n d] w fun e w' => e = .returned (.bool true) ∧ Up w w' :=
  forms_of8 H A n d l w h hr hn.symm hl (by have := hr.fit; rw [us_len] at this; omega) hd
theorem norm_sames_walk (H : NormOk) (w : World) (h : HRows w) (A : Option Addr) (n d : Nat) (a : List Nat) (hn : a.length = n) (hr : Rd w A d (us a)) (hl : ∀ c ∈ a, c < 4294967296) (_hd : d * 4 ≤ 140737488351232)
    (B : Option Addr) (m e : Nat) (b : List Nat) (hm : b.length = m) (hr2 : Rd w B e (us b)) (hl2 : ∀ c ∈ b, c < 4294967296) (_he : e * 4 ≤ 140737488351232) :
    Calls Tryd.prog 4 #[.slice A n d, .slice B m e] w fun e w' => e = .returned (.bool true) ∧ Up w w' :=
  sames_of8 H A B n d m e a b w h hr hr2 hn.symm hm.symm hl hl2
theorem norm_texts_walk (H : NormOk) (w : World) (h : HRows w) (A : Option Addr) (n d : Nat) (l : List UInt8) (hn : l.length = n) (hr : Rd w A d (bs l)) (_hd : d * 1 ≤ 140737488351232) :
    Calls Tryd.prog 5 #[.slice A n d] w fun e w' => e = .returned (.bool true) ∧ Up w w' :=
  texts_of8 H A n d l w h hr hn.symm
theorem norm_safes_walk (H : NormOk) (w : World) (h : HRows w) (A : Option Addr) (n d : Nat) (l : List Nat) (hn : l.length = n) (hr : Rd w A d (us l)) (hl : ∀ c ∈ l, c < 4294967296) (_hd : d * 4 ≤ 140737488351232) :
    Calls Tryd.prog 6 #[.slice A n d] w fun e w' => e = .returned (.bool true) ∧ Up w w' :=
  safes_of8 H A n d l w h hr hn.symm hl
theorem norm_again_walk (H : NormOk) (w : World) (h : HRows w) (A : Option Addr) (n d : Nat) (l : List Nat) (hn : l.length = n) (hr : Rd w A d (us l)) (hl : ∀ c ∈ l, c < 4294967296) (_hd : d * 4 ≤ 140737488351232) :
    Calls Tryd.prog 7 #[.slice A n d] w fun e w' => e = .returned (.bool true) ∧ Up w w' :=
  again_of8 H A n d l w h hr hn.symm hl
theorem norm_parts_walk (H : NormOk) (w : World) (h : HRows w) (A : Option Addr) (n d : Nat) (l : List Nat) (hn : l.length = n) (hr : Rd w A d (us l)) (hl : ∀ c ∈ l, c < 4294967296) (_hd : d * 4 ≤ 140737488351232) :
    Calls Tryd.prog 8 #[.slice A n d] w fun e w' => e = .returned (.bool true) ∧ Up w w' :=
  parts_of8 H A n d l w h hr hn.symm hl
theorem norm_equal_walk (H : NormOk) (w : World) (h : HRows w) (A : Option Addr) (n d : Nat) (a : List Nat) (hn : a.length = n) (hr : Rd w A d (us a)) (hl : ∀ c ∈ a, c < 4294967296) (_hd : d * 4 ≤ 140737488351232)
    (B : Option Addr) (m e : Nat) (b : List Nat) (hm : b.length = m) (hr2 : Rd w B e (us b)) (hl2 : ∀ c ∈ b, c < 4294967296) (_he : e * 4 ≤ 140737488351232) :
    Calls Tryd.prog 9 #[.slice A n d, .slice B m e] w fun e w' => e = .returned (.bool true) ∧ Up w w' :=
  equal_of8 H A B n d m e a b w h hr hr2 hn.symm hm.symm hl hl2
theorem norm_bytes_walk (H : NormOk) (w : World) (h : HRows w) (A : Option Addr) (n d : Nat) (l : List UInt8) (hn : l.length = n) (hr : Rd w A d (bs l)) (_hd : d * 1 ≤ 140737488351232) :
    Calls Tryd.prog 10 #[.slice A n d] w fun e w' => e = .returned (.bool true) ∧ Up w w' :=
  bytes_of8 H A n d l w h hr hn.symm
theorem norm_marks_walk (H : NormOk) (w : World) (h : HRows w) (A : Option Addr) (n d : Nat) (l : List Nat) (hn : l.length = n) (hr : Rd w A d (us l)) (hl : ∀ c ∈ l, c < 4294967296) (_hd : d * 4 ≤ 140737488351232) (x : Int) (hx : 0 ≤ x ∧ x < 256) :
    Calls Tryd.prog 11 #[.slice A n d, .int .u8 x] w fun e w' => e = .returned (.bool true) ∧ Up w w' := by
  obtain ⟨x, rfl⟩ := Int.eq_ofNat_of_zero_le hx.1
  exact marks_of8 H A n d x (by omega) l w h hr hn.symm hl

end Go.Proofs.YtdhnjfkpehigiaaDoor
