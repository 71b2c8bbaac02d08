/- The statements of stage 7: what the rows ask. -/
import Derived.Test.YtnmcdiiiikbkaaaDoorCon
import Derived.Test.YtnmcdiiiikbkaaaDoorLdh
namespace Go.Proofs.YtnmcdiiiikbkaaaDoor
open Go.RowKit

theorem compose_twos_walk (H : ComposeOk) (w : World) (h : HRows w) (a : Int) (ha : 0 ≤ a ∧ a < 4294967296) (b : Int) (hb : 0 ≤ b ∧ b < 4294967296) : Calls Tryd.prog 9 #[.int .u32 a, .int .u32 b] w fun e w' => e = .returned (.bool true) ∧ Up w w' := by
  obtain ⟨a, rfl⟩ := Int.eq_ofNat_of_zero_le ha.1
  obtain ⟨b, rfl⟩ := Int.eq_ofNat_of_zero_le hb.1
  exact twos_of H a b (by omega) (by omega) w h
theorem compose_lists_walk (H : ComposeOk) (w : World) (h : HRows w) (A : Option Addr) (n d : Nat) (l : List Nat) (hn : l.length = n) (hr : Rd w A d (us l)) (hl : ∀ c ∈ l, c < 4294967296) (hd : d * 4 ≤ 140737488351232) :
    Calls Tryd.prog 10 #[.slice A n d] w fun e w' => e = .returned (.bool true) ∧ Up w w' :=
  composes_of7 H A n d l w h hr hn.symm hl (by have := hr.fit; rw [us_len] at this; omega) hd
theorem compose_back_walk (H7 : ComposeOk) (H6 : OrderOk) (HD : DecompOk) (w : World) (h : HRows w) (A : Option Addr) (n d : Nat) (l : List Nat) (hn : l.length = n) (hr : Rd w A d (us l)) (hl : ∀ c ∈ l, c < 4294967296) (_hd : d * 4 ≤ 140737488351232) :
    Calls Tryd.prog 11 #[.slice A n d] w fun e w' => e = .returned (.bool true) ∧ Up w w' := back_of7 H7 H6 HD A n d l w h hr hn.symm hl
theorem compose_again_walk (H7 : ComposeOk) (H6 : OrderOk) (HD : DecompOk) (w : World) (h : HRows w) (A : Option Addr) (n d : Nat) (l : List Nat) (hn : l.length = n) (hr : Rd w A d (us l)) (hl : ∀ c ∈ l, c < 4294967296) (_hd : d * 4 ≤ 140737488351232) :
    Calls Tryd.prog 12 #[.slice A n d] w fun e w' => e = .returned (.bool true) ∧ Up w w' := again_of7 H7 H6 HD A n d l w h hr hn.symm hl
theorem compose_parts_walk (H7 : ComposeOk) (w : World) (h : HRows w) (A : Option Addr) (n d : Nat) (a : List Nat) (hn : a.length = n) (hr : Rd w A d (us a)) (hl : ∀ c ∈ a, c < 4294967296) (_hd : d * 4 ≤ 140737488351232)
    (B : Option Addr) (m e : Nat) (b : List Nat) (hm : b.length = m) (hr2 : Rd w B e (us b)) (hl2 : ∀ c ∈ b, c < 4294967296) (_he : e * 4 ≤ 140737488351232) :
    Calls Tryd.prog 13 #[.slice A n d, .slice B m e] w fun e w' => e = .returned (.bool true) ∧ Up w w' := parts_of7 H7 A B n d m e a b w h hr hr2 hn.symm hm.symm hl hl2
theorem compose_full_walk (H7 : ComposeOk) (HD : DecompOk) (w : World) (h : HRows w) (c : Int) (hc : 0 ≤ c ∧ c < 4294967296) : Calls Tryd.prog 14 #[.int .u32 c] w fun e w' => e = .returned (.bool true) ∧ Up w w' := by
  obtain ⟨c, rfl⟩ := Int.eq_ofNat_of_zero_le hc.1
  exact full_of7 H7 HD c (by omega) w h

end Go.Proofs.YtnmcdiiiikbkaaaDoor
