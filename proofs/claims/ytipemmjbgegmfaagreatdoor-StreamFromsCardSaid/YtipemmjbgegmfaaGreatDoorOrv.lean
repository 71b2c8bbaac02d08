/- Orv: one text of Orw Orx Orc. -/
import Derived.Test.YtipemmjbgegmfaaGreatDoorOrd
import Derived.Test.YtipemmjbgegmfaaGreatDoorUnl
import Derived.Test.YtipemmjbgegmfaaGreatDoorBas
import Derived.Test.YtipemmjbgegmfaaGreatDoorUpo

/- The document's order: what its functions answer. -/
namespace Go.Proofs.YtipemmjbgegmfaaGreatDoor
open Go.RowKit Go.Proofs.YtipemmjbgegmfaaGreatDoor.Ordr

/-- One step of the document's insertion, on what is kept with the last one first. -/
theorem kept_take (cls : Nat → Nat) {l : List Nat} {i : Nat} (h : i < l.length) : kept cls (l.take (i + 1)) [] = ins cls l[i] (kept cls (l.take i) []) := by
  rw [List.take_succ_eq_append_getElem h, kept_app]; rfl
theorem kept_len (cls : Nat → Nat) (l : List Nat) : (kept cls l []).length = l.length := by
  have := ord_len cls l
  unfold ord at this
  rwa [List.length_reverse] at this

/-- Two neighbours change places. -/
theorem swap_us {w : World} {base g n d : Nat} {P Q : List Nat} {y x : Nat} (h : w.ownsRow base 28 1 (.slice (some ⟨g, 0, none⟩) n d) n (us (P ++ y :: x :: Q))) :
    ((w.setCell ⟨g, P.length, none⟩ (.int .u32 (x : Int))).setCell ⟨g, P.length + 1, none⟩ (.int .u32 (y : Int))).ownsRow base 28 1 (.slice (some ⟨g, 0, none⟩) n d) n (us (P ++ x :: y :: Q)) := by
  have h1 := (h.stored P.length (.int .u32 (x : Int))).1
  rw [us_set _ _ _ (by omega)] at h1
  have h2 := (h1.stored (P.length + 1) (.int .u32 (y : Int))).1
  rw [us_set _ _ _ (by omega)] at h2
  have e : ((P ++ y :: x :: Q).set P.length (x : Int).toNat).set (P.length + 1) (y : Int).toNat = P ++ x :: y :: Q := by
    rw [List.set_append_right _ _ (Nat.le_refl _), Nat.sub_self, List.set_cons_zero, List.set_append_right _ _ (by omega), show P.length + 1 - P.length = 1 from by omega]
    simp
  rwa [e] at h2

/-- Two neighbours: what is read, what may be written. -/
theorem neigh {w : World} {base g n d : Nat} {P Q : List Nat} {y x : Nat} (h : w.ownsRow base 28 1 (.slice (some ⟨g, 0, none⟩) n d) n (us (P ++ y :: x :: Q))) {q : Nat} (hq : P.length = q) :
    q + 1 < n ∧ w.cell? ⟨g, q, none⟩ = some (.int .u32 (y : Int)) ∧ w.cell? ⟨g, q + 1, none⟩ = some (.int .u32 (x : Int)) ∧ w.frozen? ⟨g, q, none⟩ = false ∧ w.frozen? ⟨g, q + 1, none⟩ = false := by
  refine ⟨?_, own_mid h hq, ?_, h.frozenAt q, h.frozenAt (q + 1)⟩
  · have := h.1
    rw [us_len] at this
    simp at this
    omega
  · rw [show P ++ y :: x :: Q = (P ++ [y]) ++ x :: Q from by simp] at h
    exact own_mid h (by simp [hq])

/-- Between two rounds of the inner loop: x stands behind rest, ahead of those that it has passed. -/
structure InsAt (cls : Nat → Nat) (x : Nat) (K : List Nat) (pass rest : List Nat) : Prop where
  eq : K = pass ++ rest
  go : ins cls x K = pass ++ ins cls x rest
theorem InsAt.next {cls : Nat → Nat} {x y : Nat} {K pass rest : List Nat} (h : InsAt cls x K pass (y :: rest)) (h0 : cls x ≠ 0) (h1 : cls x < cls y) : InsAt cls x K (pass ++ [y]) rest :=
  ⟨by rw [h.eq]; simp, by rw [h.go, ins_go cls rest h0 h1]; simp⟩
theorem InsAt.done {cls : Nat → Nat} {x : Nat} {K pass rest : List Nat} (h : InsAt cls x K pass rest) (hd : cls x = 0 ∨ rest = [] ∨ ∃ y t, rest = y :: t ∧ cls y ≤ cls x) : ins cls x K = pass ++ x :: rest := by
  rw [h.go]
  rcases hd with h0 | rfl | ⟨y, t, rfl, hy⟩
  · rw [ins_zero cls h0]
  · rfl
  · rw [ins_sit cls t (by omega)]

set_option maxRecDepth 100000 in
set_option maxHeartbeats 1000000 in
theorem order_ref (A : Option Addr) (n d : Nat) (l : List Nat) (w : World) (h : Rd w A d (us l)) (hn : n = l.length) (hmax : n ≤ 100000) :
    Calls Tryz.prog 81 #[.slice A n d] w (Gives (ord clsOf l) w) := by
  obtain ⟨B, d1, w1, hap, hrd1, hu1, hown1⟩ := elU.copy (m := n) w 60 h (by rw [us_len]; exact hn) (one_us l) (by omega) (by omega)
  have HA := Lib.hid hap
  have HC := Lib.hid class_ref
  have HO := Lib.hid hown1
  have Hn := Lib.hid hn
  have HT := Lib.hid (fun i (hi : i < l.length) => kept_take clsOf hi)
  have HL := Lib.hid (fun i => kept_len clsOf (l.take i))
  clear hap hrd1 hown1 h hn
  generalize hcls : clsOf = cls at *
  clear hcls
  go_enter Tryz.func81, Tryz.ntmps81
  go_wp2_with (at_builtin; refine wpList_app rfl _ _ _ rfl rfl rfl HA.out ?_)
  go_loopw [4] (fun i wr => ∃ k : Nat, k ≤ n ∧ i = .int .i64 (k : Int) ∧ Hid (wr.ownsRow w.heap.size 28 1 (.slice B n d1) n (us ((kept cls (l.take k) []).reverse ++ l.drop k))) ∧ Up w wr) (fun i _ => n - (intOf i).toNat)
  case atStart => exact ⟨0, by omega, rfl, HO, hu1⟩
  case round =>
    obtain ⟨k, hk, rfl, HW, hu⟩ := hrel
    clear HO hu1 HA
    by_cases hlt : k < n
    · have hkl : k < l.length := by rw [← Hn.out]; exact hlt
      have hT := HT.out k hkl
      have hKl : (kept cls (l.take k) []).length = k := by rw [HL.out]; rw [List.length_take]; omega
      have hDr : l.drop k = l[k] :: l.drop (k + 1) := List.drop_eq_getElem_cons hkl
      have hW := HW.out
      rw [hDr] at hW
      obtain ⟨g, rfl, hg1, hg2⟩ := own_addr hW (by omega)
      have hcell : wr.cell? ⟨g, k, none⟩ = some (.int .u32 (l[k] : Int)) := own_mid hW (by rw [List.length_reverse]; exact hKl)
      have HC1 := Lib.hid (HC.out l[k])
      have HNx := Lib.hid hT
      have HK := Lib.hid hKl
      clear HW hT hKl hDr
      generalize l[k] = x at *
      generalize kept cls (l.take k) [] = K at *
      generalize hD : l.drop (k + 1) = D at *
      have HDx := Lib.hid hD
      clear hD
      have HW := Lib.hid hW
      clear hW
      go_wp2_with fail
      refine (HC1.out _).mono ?_
      rintro e w2 ⟨rfl, hu2⟩
      have HW2 := Lib.hid (own_up HW.out hu2)
      have hux := hu.trans hu2
      clear HW hcell
      go_wp2_with fail
      rename World => wo
      go_loopw [6] (fun j wr => ∃ (m : Nat) (pass rest : List Nat), j = .int .i64 (m : Int) ∧ Hid (rest.length = m) ∧ Hid (InsAt cls x K pass rest) ∧ Hid (wr.ownsRow w.heap.size 28 1 (.slice (some ⟨g, 0, none⟩) n d1) n (us (rest.reverse ++ x :: (pass.reverse ++ D)))) ∧ Up w wr) (fun j _ => (intOf j).toNat)
      case atStart => exact ⟨k, [], K, rfl, HK, Lib.hid ⟨rfl, rfl⟩, HW2, hux⟩
      case round =>
        obtain ⟨m, pass, rest, rfl, hm, hI, HX, huy⟩ := hrel
        clear HW2 hux hu2 hu
        have fin : (cls x = 0 ∨ rest = [] ∨ ∃ y t, rest = y :: t ∧ cls y ≤ cls x) → Hid (wr.ownsRow w.heap.size 28 1 (.slice (some ⟨g, 0, none⟩) n d1) n (us ((kept cls (l.take (k + 1)) []).reverse ++ l.drop (k + 1)))) := fun hd => by
          rw [HNx.out, HDx.out, hI.out.done hd]
          exact Lib.hid (by simpa using HX.out)
        by_cases hm0 : m = 0
        · subst hm0
          have HF := fin (.inr (.inl (List.length_eq_zero_iff.1 hm.out)))
          clear fin
          go_wp2_with fail
          go_roundw
          case rel => exact ⟨k + 1, by omega, by go_num, HF, huy⟩
          case measure => simp [intOf]; omega
        · by_cases hc0 : cls x = 0
          · have HF := fin (.inl hc0)
            have hcb : ((cls x : Int) != 0) = false := by simp [hc0]
            clear fin
            generalize cls x = c at *
            go_wp2_with fail
            go_roundw
            case rel => exact ⟨k + 1, by omega, by go_num, HF, huy⟩
            case measure => simp [intOf]; omega
          · match rest, hm with
            | [], hm => exact absurd hm.out (fun e => hm0 e.symm)
            | y :: t, hm =>
              obtain ⟨q, rfl⟩ : ∃ q, m = q + 1 := ⟨m - 1, by omega⟩
              have hq : t.length = q := by simpa using hm.out
              have hX := HX.out
              rw [show (y :: t).reverse ++ x :: (pass.reverse ++ D) = t.reverse ++ y :: x :: (pass.reverse ++ D) from by simp] at hX
              obtain ⟨hqn, hcy, -⟩ := neigh (q := q) hX (by rw [List.length_reverse]; exact hq)
              have HC2 := Lib.hid (HC.out y)
              have HXX := Lib.hid hX
              have hIn := Lib.hid (fun h => hI.out.next hc0 h)
              have hcb : ((cls x : Int) != 0) = true := by simp; omega
              clear hX HX hm hI
              by_cases hle : cls y ≤ cls x
              · have HF := fin (.inr (.inr ⟨y, t, rfl, hle⟩))
                clear fin hIn
                generalize cls x = c at *
                generalize cls y = c2 at *
                go_wp2_with fail
                refine (HC2.out _).mono ?_
                rintro e w3 ⟨rfl, hu3⟩
                go_wp2_with fail
                go_roundw
                case rel => exact ⟨k + 1, by omega, by go_num, Lib.hid (own_up HF.out hu3), huy.trans hu3⟩
                case measure => simp [intOf]; omega
              · clear fin
                generalize hcc : cls x = c at *
                generalize hcc2 : cls y = c2 at *
                go_wp2_with fail
                refine (HC2.out _).mono ?_
                rintro e w3 ⟨rfl, hu3⟩
                have hX3 := own_up HXX.out hu3
                obtain ⟨-, hcy, hcx, hf1, hf2⟩ := neigh (q := q) hX3 (by rw [List.length_reverse]; exact hq)
                have HS3 := Lib.hid (swap_us hX3)
                have hq2 : t.reverse.length = q := by rw [List.length_reverse]; exact hq
                rw [hq2] at HS3
                have huw := huy.trans hu3
                clear HXX HC2 hX3 huy hu3 hq2
                go_wp2_with fail
                go_region
                go_wp2_with fail
                go_roundw
                case rel =>
                  refine ⟨q, pass ++ [y], t, rfl, Lib.hid hq, Lib.hid (hIn.out (by omega)), Lib.hid ?_, ((huw.setCell hg1 _ _).setCell hg1 _ _).drew⟩
                  have := own_up HS3.out ((Up.refl _).drew)
                  simpa using this
                case measure => simp [intOf]
    · have e : l.take k = l := List.take_of_length_le (by rw [← Hn.out]; omega)
      have e2 : l.drop k = [] := List.drop_of_length_le (by rw [← Hn.out]; omega)
      have hW := HW.out
      rw [e, e2, List.append_nil] at hW
      have HW2 := Lib.hid hW
      clear e e2 hW HW HT HL
      go_wp2_with fail
      go_ret
      exact Gives.of (by rw [ord_len]; exact Hn.out) HW2.out hu

end Go.Proofs.YtipemmjbgegmfaaGreatDoor

/- The document's Is; what is asked of the program's order. -/
namespace Go.Proofs.YtipemmjbgegmfaaGreatDoor
open Go.RowKit Go.Proofs.YtipemmjbgegmfaaGreatDoor.Ordr

end Go.Proofs.YtipemmjbgegmfaaGreatDoor

/- The closed cases of stage 6. -/
namespace Go.Proofs.YtipemmjbgegmfaaGreatDoor
open Go.RowKit Go.Proofs.YtipemmjbgegmfaaGreatDoor.Ordr

theorem k_cls7 : key clsS.data.toList 12 7 = 803 := by kernel_rfl
theorem k_cls8 : key clsS.data.toList 12 8 = 807 := by kernel_rfl
theorem k_cls7b : fld clsS.data.toList 12 7 5 5 = 806 := by kernel_rfl
theorem k_cls7c : fld clsS.data.toList 12 7 10 2 = 220 := by kernel_rfl
theorem v_803 : clsOf 803 = 220 := (cls_of (i := 7) (by decide) (leq k_cls7 (by decide)) (geq k_cls8 (by decide)) (geq k_cls7b (by decide))).trans k_cls7c
theorem v_small {c : Nat} (h : c < 768) : clsOf c = 0 := cls_none (Nat.lt_of_lt_of_le h (geq k_cls0 (Nat.le_refl _)))
theorem ord_case (cls : Nat → Nat) (h1 : cls 97 = 0) (h2 : cls 769 = 230) (h3 : cls 803 = 220) (h4 : cls 65 = 0) :
    ord cls [97, 769, 803] = [97, 803, 769] ∧ ordB cls [803, 65, 769] = true ∧ ordB cls [769, 803] = false := by
  refine ⟨?_, ?_, ?_⟩
  · simp [ord, kept, ins, h1, h2, h3]
  · simp [ordB, upB, h2, h3, h4]
  · simp [ordB, upB, h2, h3]

end Go.Proofs.YtipemmjbgegmfaaGreatDoor
