/- The closed cases of stage 8. -/
import Derived.Test.YtdhnjfkpehigiaaDoorNox
import Derived.Test.YtdhnjfkpehigiaaDoorCoy
namespace Go.Proofs.YtdhnjfkpehigiaaDoor
open Go.RowKit Go.Proofs.YtdhnjfkpehigiaaDoor.Ordr Go.Proofs.YtdhnjfkpehigiaaDoor.Cmpr

theorem TextP.yes {cs : List Nat} (h : U.Cps cs) {w : World} {e : Ending} {w' : World} (hp : TextP (U.encs cs) w e w') :
    Up w w' ∧ ∃ B c, e = .returned (.tuple #[.slice B (U.encs (nfcL cs)).length c, .int .i64 0]) ∧ Rd w' B c (bs (U.encs (nfcL cs))) := by
  obtain ⟨hu, ⟨ds, B, c, hd, he, h1, h2⟩ | ⟨h1, _⟩⟩ := hp
  · have := U.encs_inj h hd he
    subst this
    exact ⟨hu, B, c, h1, own_read h2⟩
  · rw [U.fault_encs h] at h1
    omega
theorem TextP.own {cs : List Nat} (h : U.Cps cs) {w : World} {e : Ending} {w' : World} (hp : TextP (U.encs cs) w e w') :
    Up w w' ∧ ∃ B c, e = .returned (.tuple #[.slice B (U.encs (nfcL cs)).length c, .int .i64 0]) ∧ w'.ownsRow w.heap.size 5 1 (.slice B (U.encs (nfcL cs)).length c) (U.encs (nfcL cs)).length (bs (U.encs (nfcL cs))) := by
  obtain ⟨hu, ⟨ds, B, c, hd, he, h1, h2⟩ | ⟨h1, _⟩⟩ := hp
  · have := U.encs_inj h hd he
    subst this
    exact ⟨hu, B, c, h1, h2⟩
  · rw [U.fault_encs h] at h1
    omega
theorem TextP.no {l : List UInt8} (h : 0 ≤ U.fault l) {w : World} {e : Ending} {w' : World} (hp : TextP l w e w') :
    Up w w' ∧ ∃ B c, e = .returned (.tuple #[.slice B 0 c, .int .i64 6]) ∧ Rd w' B c [] := by
  obtain ⟨hu, ⟨ds, A, c, hd, he, h1, h2⟩ | ⟨_, h2⟩⟩ := hp
  · rw [he, U.fault_encs hd] at h
    omega
  · exact ⟨hu, h2⟩

theorem k8_5 : key decS.data.toList 16 5 = 197 := by kernel_rfl
theorem k8_5a : fld decS.data.toList 16 5 5 5 = 65 := by kernel_rfl
theorem k8_5b : fld decS.data.toList 16 5 10 5 = 778 := by kernel_rfl
theorem k8_893 : key decS.data.toList 16 893 = 8491 := by kernel_rfl
theorem k8_893a : fld decS.data.toList 16 893 5 5 = 197 := by kernel_rfl
theorem k8_893b : fld decS.data.toList 16 893 10 5 = 0 := by kernel_rfl
theorem k8_lo : key decS.data.toList 16 251 = 563 := by kernel_rfl
theorem k8_hi : key decS.data.toList 16 252 = 832 := by kernel_rfl
theorem k8_par : key parS.data.toList 15 12 = 65 := by kernel_rfl
theorem k8_parb : fld parS.data.toList 15 12 5 5 = 778 := by kernel_rfl
theorem k8_parc : fld parS.data.toList 15 12 10 5 = 197 := by kernel_rfl
theorem full_alone {c a : Nat} {l : List Nat} (h : rowOf c ≠ 0) (ha : decA c = a) (hb : decB c = 0) (hl : full a = l) : full c = l := by
  rw [full_row h, ha, hb, hl, if_pos rfl, List.append_nil]
theorem full_pair {c a b : Nat} {l : List Nat} (h : rowOf c ≠ 0) (ha : decA c = a) (hb : decB c = b) (hl : full a = l) (hb0 : b ≠ 0) : full c = l ++ [b] := by
  rw [full_row h, ha, hb, hl, if_neg hb0]
theorem full_below {c : Nat} (h : c < 192) : full c = [c] :=
  full_no (by rw [Bool.eq_false_iff]; intro h2; have := (isS_iff c).1 h2; omega) (row_less (Nat.lt_of_lt_of_le h (geq k_dec0 (Nat.le_refl _))))
theorem v8_65 : full 65 = [65] := full_below (by decide)
theorem v8_778 : full 778 = [778] := full_no (by decide) (row_none (i := 251) (by decide) (leq (congrArg Nat.succ k8_lo) (by decide)) (geq k8_hi (by decide)))
theorem v8_r197 : rowOf 197 = 5 + 1 := row_of_key (j := 5) (by decide) k8_5
theorem v8_197 : full 197 = [65] ++ [778] := full_pair (by rw [v8_r197]; decide) ((row_dec v8_r197).1.trans k8_5a) ((row_dec v8_r197).2.1.trans k8_5b) v8_65 (by decide)
theorem v8_r8491 : rowOf 8491 = 893 + 1 := row_of_key (j := 893) (by decide) k8_893
theorem v8_8491 : full 8491 = [65] ++ [778] := full_alone (by rw [v8_r8491]; decide) ((row_dec v8_r8491).1.trans k8_893a) ((row_dec v8_r8491).2.1.trans k8_893b) v8_197
theorem v8_cls : clsOf 778 = 230 := (cls_of (i := 0) (by decide) (leq k_cls0 (by decide)) (geq k_cls1 (by decide)) (geq k_cls0b (by decide))).trans k_cls0c
theorem v8_two : twoO 65 778 = some 197 := two_pair (by decide) (.inl ⟨rfl, 12, by decide, k8_par, k8_parb, k8_parc⟩)
theorem norm_case (cls : Nat → Nat) (two : Nat → Nat → Option Nat) (fl : Nat → List Nat) (h1 : cls 65 = 0) (h2 : cls 778 = 230) (t : two 65 778 = some 197) (f1 : fl 65 = [65]) (f2 : fl 778 = [778]) (f3 : fl 197 = [65] ++ [778]) (f4 : fl 8491 = [65] ++ [778]) :
    Nrmr.nfd cls fl [197] = [65, 778] ∧ Nrmr.nfc cls two fl [8491] = [197] ∧ Nrmr.nfc cls two fl [65, 778] = [197] := by
  have e : ord cls [65, 778] = [65, 778] := by simp [ord, kept, ins, h1, h2]
  have e2 : comp cls two [65, 778] = [197] := by simp [comp, run, Cmpr.step, Cmpr.keep, Cmpr.blocked, back, h1, t]
  refine ⟨?_, ?_, ?_⟩
  · simp [Nrmr.nfd, f3, e]
  · simp [Nrmr.nfc, Nrmr.nfd, f4, e, e2]
  · simp [Nrmr.nfc, Nrmr.nfd, f1, f2, e, e2]
theorem norm_vals : nfdL [197] = [65, 778] ∧ nfcL [8491] = [197] ∧ nfcL [65, 778] = [197] :=
  norm_case clsOf twoO full (small_cls (by decide)) v8_cls v8_two v8_65 v8_778 v8_197 v8_8491
theorem start_mark {c : Nat} (h : clsOf c ≠ 0) : startOf c = false := by
  unfold startOf
  rw [decide_eq_false h, Bool.false_and]
theorem v8_66 : startOf 66 = true := yes_of (row_less (geq k_dec0 (by decide))) (cls_none (geq k_cls0 (by decide))) (sec_none (by decide))
theorem safe_case : safeOf [65, 769, 66, 769] = 2 := by
  have h1 : startOf 769 = false := start_mark (by rw [v_cls]; decide)
  show safeF [65, 769, 66, 769] (2 + 1) = 2
  rw [safeF_step]
  show (if startOf 769 = true then 3 else safeF [65, 769, 66, 769] (1 + 1)) = 2
  rw [h1, if_neg (by decide), safeF_step]
  show (if startOf 66 = true then 2 else safeF [65, 769, 66, 769] 1) = 2
  rw [v8_66, if_pos rfl]
theorem fault_ff : 0 ≤ U.fault [255] := by decide

end Go.Proofs.YtdhnjfkpehigiaaDoor
