/- The statements of stage 8: the walks. -/
import Derived.Test.YtdhnjfkpehigiaaDoorNoz
namespace Go.Proofs.YtdhnjfkpehigiaaDoor
open Go.RowKit Go.Proofs.YtdhnjfkpehigiaaDoor.Ordr Go.Proofs.YtdhnjfkpehigiaaDoor.Cmpr

set_option maxRecDepth 100000 in
theorem sames_of8 (H : NormOk) (A B : Option Addr) (n d m e : Nat) (a b : List Nat) (w : World) (h : HRows w) (hr : Rd w A d (us a)) (hr2 : Rd w B e (us b)) (hn : n = a.length) (hm : m = b.length) (hl : ∀ c ∈ a, c < 4294967296) (hl2 : ∀ c ∈ b, c < 4294967296) :
    Calls Tryd.prog 4 #[.slice A n d, .slice B m e] w fun e w' => e = .returned (.bool true) ∧ Up w w' := by
  have c4 := Lib.hid (fun w h => awake_8 H w h)
  by_cases hb : 300 < n
  · clear H hr hn hl hr2 hm hl2
    go_enter Tryd.func4, Tryd.ntmps4
    go_wp2_with fail
    refine (c4.out _ h).mono ?_
    rintro e w1 ⟨rfl, hu⟩
    go_wp2_with fail
    go_ret
    exact ⟨rfl, hu⟩
  by_cases hb2 : 300 < m
  · clear H hr hn hl hr2 hm hl2
    go_enter Tryd.func4, Tryd.ntmps4
    go_wp2_with fail
    refine (c4.out _ h).mono ?_
    rintro e w1 ⟨rfl, hu⟩
    go_wp2_with fail
    go_ret
    exact ⟨rfl, hu⟩
  have c1 := Lib.hid (H.same A B n d m e a b w h hr hr2 hn hm (by omega) (by omega) hl hl2)
  have c2 := Lib.hid (fun w' (u : Up w w') => nsame_ref A B n d m e a b w' (hr.up u) (hr2.up u) hn hm (by omega) (by omega))
  clear H hr hn hl hr2 hm hl2
  generalize decide (nfdL a = nfdL b) = r at *
  go_enter Tryd.func4, Tryd.ntmps4
  go_wp2_with fail
  refine c1.out.mono ?_
  rintro e w1 ⟨rfl, hu1⟩
  go_wp2_with fail
  refine (c2.out _ hu1).mono ?_
  rintro e w2 ⟨rfl, hu2⟩
  go_wp2_with fail
  refine (c4.out _ (h.up (hu1.trans hu2))).mono ?_
  rintro e w3 ⟨rfl, hu3⟩
  go_wp2_with fail
  go_ret
  exact ⟨rfl, (hu1.trans hu2).trans hu3⟩

set_option maxRecDepth 100000 in
theorem safes_of8 (H : NormOk) (A : Option Addr) (n d : Nat) (l : List Nat) (w : World) (h : HRows w) (hr : Rd w A d (us l)) (hn : n = l.length) (hl : ∀ c ∈ l, c < 4294967296) :
    Calls Tryd.prog 6 #[.slice A n d] w fun e w' => e = .returned (.bool true) ∧ Up w w' := by
  have c4 := Lib.hid (fun w h => awake_8 H w h)
  by_cases hb : 2000 < n
  · clear H hr hn hl
    go_enter Tryd.func6, Tryd.ntmps6
    go_wp2_with fail
    refine (c4.out _ h).mono ?_
    rintro e w1 ⟨rfl, hu⟩
    go_wp2_with fail
    go_ret
    exact ⟨rfl, hu⟩
  have c1 := Lib.hid (H.safe A n d l w h hr hn (by omega) hl)
  have c2 := Lib.hid (fun w' (u : Up w w') => nsafe_ref A n d l w' (hr.up u) hn (by omega))
  clear H hr hn hl
  generalize safeOf l = s at *
  go_enter Tryd.func6, Tryd.ntmps6
  go_wp2_with fail
  refine c1.out.mono ?_
  rintro e w1 ⟨rfl, hu1⟩
  go_wp2_with fail
  refine (c2.out _ hu1).mono ?_
  rintro e w2 ⟨rfl, hu2⟩
  go_wp2_with fail
  refine (c4.out _ (h.up (hu1.trans hu2))).mono ?_
  rintro e w3 ⟨rfl, hu3⟩
  go_wp2_with fail
  go_ret
  exact ⟨rfl, (hu1.trans hu2).trans hu3⟩

theorem nfc_eq8 (a b : List Nat) : nfcL a = nfcL b ↔ nfdL a = nfdL b := Nrmr.nfc_eq clsOf twoO good a b

set_option maxRecDepth 100000 in
theorem equal_of8 (H : NormOk) (A B : Option Addr) (n d m e : Nat) (a b : List Nat) (w : World) (h : HRows w) (hr : Rd w A d (us a)) (hr2 : Rd w B e (us b)) (hn : n = a.length) (hm : m = b.length) (hl : ∀ c ∈ a, c < 4294967296) (hl2 : ∀ c ∈ b, c < 4294967296) :
    Calls Tryd.prog 9 #[.slice A n d, .slice B m e] w fun e w' => e = .returned (.bool true) ∧ Up w w' := by
  have c4 := Lib.hid (fun w h => awake_8 H w h)
  by_cases hb : 200 < n
  · clear H hr hn hl hr2 hm hl2
    go_enter Tryd.func9, Tryd.ntmps9
    go_wp2_with fail
    refine (c4.out _ h).mono ?_
    rintro e w1 ⟨rfl, hu⟩
    go_wp2_with fail
    go_ret
    exact ⟨rfl, hu⟩
  by_cases hb2 : 200 < m
  · clear H hr hn hl hr2 hm hl2
    go_enter Tryd.func9, Tryd.ntmps9
    go_wp2_with fail
    refine (c4.out _ h).mono ?_
    rintro e w1 ⟨rfl, hu⟩
    go_wp2_with fail
    go_ret
    exact ⟨rfl, hu⟩
  have c1 := Lib.hid (H.nfc A n d a w h hr hn (by omega) hl)
  have c2 := Lib.hid (fun w' (u : Up w w') => H.nfc B m e b w' (h.up u) (hr2.up u) hm (by omega) hl2)
  have c3 := Lib.hid (fun w' (u : Up w w') => H.same A B n d m e a b w' (h.up u) (hr.up u) (hr2.up u) hn hm (by omega) (by omega) hl hl2)
  have c5 := fun w' (u : Up w w') => H.same A A n d n d a a w' (h.up u) (hr.up u) (hr.up u) hn hn (by omega) (by omega) hl hl
  rw [decide_eq_true (show nfdL a = nfdL a from rfl)] at c5
  have C5 := Lib.hid c5
  have he : decide (nfdL a = nfdL b) = decide (nfcL a = nfcL b) := by rw [decide_eq_decide]; exact (nfc_eq8 a b).symm
  rw [he] at c3
  clear H hr hn hl hr2 hm hl2 c5 he
  generalize nfcL a = F at *
  generalize nfcL b = G at *
  generalize hrr : decide (F = G) = r at *
  have HR := Lib.hid hrr
  clear hrr
  go_enter Tryd.func9, Tryd.ntmps9
  go_wp2_with fail
  refine c1.out.mono ?_
  rintro e w1 ⟨B1, d1, rfl, hO, hu1⟩
  have HO := Lib.hid hO
  clear hO c1
  go_wp2_with fail
  refine (c2.out _ hu1).mono ?_
  rintro e w2 ⟨B2, d2, rfl, hO2, hu2⟩
  have hs := same_gen B1 B2 d1 d2 F.length G.length F G w2 (own_read (own_up HO.out hu2)) (own_read hO2) rfl rfl
  rw [HR.out] at hs
  have HS := Lib.hid hs
  have hu02 := hu1.trans hu2
  clear hO2 c2 hs HO hu1 hu2
  go_wp2_with fail
  refine HS.out.mono ?_
  rintro e w3 ⟨rfl, hu3⟩
  go_wp2_with fail
  refine (c3.out _ (hu02.trans hu3)).mono ?_
  rintro e w4 ⟨rfl, hu4⟩
  have hu04 := (hu02.trans hu3).trans hu4
  go_wp2_with fail
  refine (C5.out _ hu04).mono ?_
  rintro e w5 ⟨rfl, hu5⟩
  go_wp2_with fail
  refine (c4.out _ (h.up (hu04.trans hu5))).mono ?_
  rintro e w6 ⟨rfl, hu6⟩
  go_wp2_with fail
  go_ret
  exact ⟨rfl, (hu04.trans hu5).trans hu6⟩

end Go.Proofs.YtdhnjfkpehigiaaDoor
