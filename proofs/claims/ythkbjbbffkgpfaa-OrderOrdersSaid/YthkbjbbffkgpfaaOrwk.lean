/- The statements of stage 6: what the rows ask. -/
import Derived.Test.YthkbjbbffkgpfaaOrs
namespace Go.Proofs.Ythkbjbbffkgpfaa
open Go.RowKit

theorem order_orders_walk (H : OrderOk) (w : World) (A : Option Addr) (n d : Nat) (l : List Nat) (hn : l.length = n) (hr : Rd w A d (us l)) (hl : ∀ c ∈ l, c < 4294967296) (hd : d * 4 ≤ 140737488351232) :
    Calls Try.prog 3 #[.slice A n d] w fun e w' => e = .returned (.bool true) ∧ Up w w' :=
  orders_of H A n d l w hr hn.symm hl (by have := hr.fit; rw [us_len] at this; omega) hd
theorem order_is_walk (H : OrderOk) (w : World) (A : Option Addr) (n d : Nat) (l : List Nat) (hn : l.length = n) (hr : Rd w A d (us l)) (hl : ∀ c ∈ l, c < 4294967296) (_hd : d * 4 ≤ 140737488351232) :
    Calls Try.prog 4 #[.slice A n d] w fun e w' => e = .returned (.bool true) ∧ Up w w' := is_of H A n d l w hr hn.symm hl
theorem order_again_walk (H : OrderOk) (w : World) (A : Option Addr) (n d : Nat) (l : List Nat) (hn : l.length = n) (hr : Rd w A d (us l)) (hl : ∀ c ∈ l, c < 4294967296) (_hd : d * 4 ≤ 140737488351232) :
    Calls Try.prog 5 #[.slice A n d] w fun e w' => e = .returned (.bool true) ∧ Up w w' := again_of6 H A n d l w hr hn.symm hl
theorem order_same_walk (H : OrderOk) (w : World) (A : Option Addr) (n d : Nat) (l : List Nat) (hn : l.length = n) (hr : Rd w A d (us l)) (hl : ∀ c ∈ l, c < 4294967296) (_hd : d * 4 ≤ 140737488351232) :
    Calls Try.prog 6 #[.slice A n d] w fun e w' => e = .returned (.bool true) ∧ Up w w' := same_of6 H A n d l w hr hn.symm hl
theorem order_parts_walk (H : OrderOk) (w : World) (A : Option Addr) (n d : Nat) (a : List Nat) (hn : a.length = n) (hr : Rd w A d (us a)) (hl : ∀ c ∈ a, c < 4294967296) (_hd : d * 4 ≤ 140737488351232)
    (B : Option Addr) (m e : Nat) (b : List Nat) (hm : b.length = m) (hr2 : Rd w B e (us b)) (hl2 : ∀ c ∈ b, c < 4294967296) (_he : e * 4 ≤ 140737488351232) :
    Calls Try.prog 7 #[.slice A n d, .slice B m e] w fun e w' => e = .returned (.bool true) ∧ Up w w' :=
  parts_of6 H A B n d m e a b w hr hr2 hn.symm hm.symm hl hl2

end Go.Proofs.Ythkbjbbffkgpfaa
