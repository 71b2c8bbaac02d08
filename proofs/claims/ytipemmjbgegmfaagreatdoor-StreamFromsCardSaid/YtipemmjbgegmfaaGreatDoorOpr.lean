/- Opr: one text of Opa Opb Opc Opd. -/
import Derived.Test.YtipemmjbgegmfaaGreatDoorBas
import Derived.Test.YtipemmjbgegmfaaGreatDoorOrd
import Derived.Test.YtipemmjbgegmfaaGreatDoorUpo
import Derived.Test.YtipemmjbgegmfaaGreatDoorSsm
import Derived.Test.YtipemmjbgegmfaaGreatDoorOrv

/- The program's order: Classes, marks, Is; the comparison. -/
namespace Go.Proofs.YtipemmjbgegmfaaGreatDoor
open Go.RowKit

theorem infoK : (Tryz.prog.info? 3).map (fun i => (i.zero, i.size, i.bytes)) = some (some (.int .i64 0), 1, 8) := by kernel_rfl
theorem uKe : Tryz.prog.underlying 111 = some (.slice (Tryz.prog.elem 111)) := by kernel_rfl
theorem uUe : Tryz.prog.underlying 60 = some (.slice (Tryz.prog.elem 60)) := by kernel_rfl
theorem uKx : Tryz.prog.underlying 111 = some (.slice 3) := by kernel_rfl
theorem uUx : Tryz.prog.underlying 60 = some (.slice 28) := by kernel_rfl

theorem made_ints (w : World) (q : Nat) (hq : q ≤ 1000000000) : ∃ w', (Instr.makeSlice 111 (.int .i64 (q : Int)) (.int .i64 (q : Int))).run Tryz.prog w = .ok (.slice (some ⟨w.heap.size, 0, none⟩) q q) w' ∧
    w'.ownsRow w.heap.size 3 1 (.slice (some ⟨w.heap.size, 0, none⟩) q q) q (ks (List.replicate q 0)) ∧ Up w w' ∧ w.heap.size < w'.heap.size := by
  obtain ⟨i, h1, h2, h3, h4⟩ := info_parts infoK
  obtain ⟨w', hrun, r1, r2⟩ := run_make_full (P := Tryz.prog) w w.heap.size 111 3 i (.int .i64 0) 1 uKx h1 h2 h3 .i64 .i64 q (by rw [h4]; omega) (by unfold maxLen; omega) (Nat.le_refl _)
  refine ⟨w', hrun, ?_, Up.own (Up.refl w) r2 (fun k hk => by cases hk), ?_⟩
  · have e : (madeCells (Value.int .i64 0).cells (q * 1)).toList = ks (List.replicate q 0) := by
      rw [show (Value.int .i64 0).cells = #[Value.int .i64 0] from rfl, toList_madeCells_one, Nat.mul_one]
      exact ks_zero q
    rwa [e] at r1
  · exact (r1.lt _ rfl).2
theorem made_nums (w : World) (base q : Nat) (hbase : base ≤ w.heap.size) (hq : q ≤ 1000000000) : ∃ w', (Instr.makeSlice 60 (.int .i64 (q : Int)) (.int .i64 (q : Int))).run Tryz.prog w = .ok (.slice (some ⟨w.heap.size, 0, none⟩) q q) w' ∧
    w'.ownsRow base 28 1 (.slice (some ⟨w.heap.size, 0, none⟩) q q) q (us (List.replicate q 0)) ∧ Up w w' := by
  obtain ⟨i, h1, h2, h3, h4⟩ := info_parts infoU
  obtain ⟨w', hrun, r1, r2⟩ := run_make_full (P := Tryz.prog) w base 60 28 i (.int .u32 0) 1 uUx h1 h2 h3 .i64 .i64 q (by rw [h4]; omega) (by unfold maxLen; omega) hbase
  refine ⟨w', hrun, ?_, Up.own (Up.refl w) r2 (fun k hk => by cases hk)⟩
  have e : (madeCells (Value.int .u32 0).cells (q * 1)).toList = us (List.replicate q 0) := by
    rw [show (Value.int .u32 0).cells = #[Value.int .u32 0] from rfl, toList_madeCells_one, Nat.mul_one]
    simp [us]
  rwa [e] at r1

/-- One more of them is laid. -/
theorem lay_nat (X : List Nat) (q k : Nat) (h : k < X.length) (hq : X.length = q) : (X.take k ++ List.replicate (q - k) 0).set k X[k] = X.take (k + 1) ++ List.replicate (q - (k + 1)) 0 := by
  have e : List.replicate (q - k) 0 = 0 :: List.replicate (q - (k + 1)) 0 := by
    rw [show q - k = (q - (k + 1)) + 1 by omega]; rfl
  have hl : (X.take k).length = k := by rw [List.length_take]; omega
  rw [List.set_append_right _ _ (by omega), hl, Nat.sub_self, e, List.set_cons_zero, List.take_succ_eq_append_getElem h, List.append_assoc]
  rfl

set_option maxRecDepth 100000 in
set_option maxHeartbeats 1000000 in
theorem classes_prog (A : Option Addr) (n d : Nat) (l : List Nat) (w : World) (h : Rd w A d (us l)) (hn : n = l.length) (hmax : n ≤ 1000000000) :
    Calls Tryz.prog 89 #[.slice A n d] w (GivesK (l.map clsOf) w) := by
  have H := Lib.hid h
  have Hn := Lib.hid hn
  have hf := h.fit
  rw [us_len, ← hn] at hf
  obtain ⟨X, hX⟩ : ∃ X, l.map clsOf = X := ⟨_, rfl⟩
  have hxl : X.length = n := by rw [← hX, List.length_map, hn]
  have HXG := Lib.hid (fun k (h : k < l.length) (h2 : k < X.length) => show X[k] = clsOf l[k] by subst hX; simp)
  have HX := Lib.hid hxl
  rw [hX]
  unfold GivesK
  obtain ⟨w1, hmk, hown, hu1, _⟩ := made_ints w n hmax
  have HO := Lib.hid hown
  have HC := Lib.hid class_prog
  clear h hn hown hX hxl
  go_enter Tryz.func89, Tryz.ntmps89
  go_wp2_with fail
  clear hmk
  go_loopw [11] (fun i wr => ∃ k : Nat, k ≤ n ∧ i = .int .i64 (k : Int) ∧ Hid (wr.ownsRow w.heap.size 3 1 (.slice (some ⟨w.heap.size, 0, none⟩) n n) n (ks (X.take k ++ List.replicate (n - k) 0))) ∧ Up w wr) (fun i _ => n - (intOf i).toNat)
  case atStart => exact ⟨0, Nat.zero_le _, rfl, by rw [List.take_zero, List.nil_append, Nat.sub_zero]; exact HO, hu1⟩
  case round =>
    obtain ⟨k, hk, rfl, hown, hu⟩ := hrel
    clear HO hu1
    by_cases hlt : k < n
    · have hkl : k < l.length := by rw [← Hn.out]; exact hlt
      have hkx : k < X.length := by rw [HX.out]; exact hlt
      obtain ⟨a, rfl, _⟩ := H.out.ad (by omega)
      have hcell : wr.cell? (a.add k) = some (.int .u32 (l[k] : Int)) := (H.out.up hu).cell a rfl k _ (us_get l k hkl)
      have HC1 := Lib.hid (HC.out l[k])
      have he := HXG.out k hkl hkx
      have hst := Lib.hid (fun w' (u : Up wr w') => show (w'.setCell ⟨w.heap.size, k, none⟩ (.int .i64 (X[k] : Int))).ownsRow w.heap.size 3 1 (.slice (some ⟨w.heap.size, 0, none⟩) n n) n (ks (X.take (k + 1) ++ List.replicate (n - (k + 1)) 0)) from by
        have := owk_bump (own_up hown.out u) k X[k]
        rwa [lay_nat X n k hkx HX.out] at this)
      have hfr : ∀ w', Up wr w' → w'.frozen? ⟨w.heap.size, k, none⟩ = false := fun w' u => (own_up hown.out u).frozenAt k
      have hce : ∀ w', Up wr w' → ∃ v, w'.cell? ⟨w.heap.size, k, none⟩ = some v := fun w' u => by
        have hk2 : k < (X.take k ++ List.replicate (n - k) 0).length := by rw [List.length_append, List.length_take, List.length_replicate]; omega
        exact ⟨_, ((own_up hown.out u).cellAt k (by omega)).trans (ks_get _ k hk2)⟩
      rw [he] at hst
      clear he hown HXG
      generalize clsOf l[k] = v at *
      generalize l[k] = x at *
      go_wp2_with fail
      refine (HC1.out _).mono ?_
      rintro e w2 ⟨rfl, hu2⟩
      have hfr2 := hfr w2 hu2
      obtain ⟨vx, hcx⟩ := hce w2 hu2
      have HST := Lib.hid (hst.out w2 hu2)
      have HU := Lib.hid (Up.setCell (hu.trans hu2) (Nat.le_refl _) k (.int .i64 (v : Int)))
      clear hfr hce hst
      go_wp2_with fail
      go_roundw
      case rel => exact ⟨k + 1, by omega, by go_num, HST, HU.out⟩
      case measure => simp [intOf]; omega
    · obtain rfl : k = n := by omega
      have hr := hown.out
      rw [Nat.sub_self, List.replicate_zero, List.append_nil, List.take_of_length_le (by rw [HX.out]; omega)] at hr
      have HR := Lib.hid hr
      clear hr hown HXG
      go_wp2_with fail
      go_ret
      exact ⟨some ⟨w.heap.size, 0, none⟩, k, by rw [HX.out]; rfl, by rw [HX.out]; exact HR.out, hu⟩

/-- How many marks stand ahead of the first that is none. -/
def mks : List Nat → Nat
  | [] => 0
  | c :: l => if c = 0 then 0 else mks l + 1
theorem mks_le : ∀ l : List Nat, mks l ≤ l.length
  | [] => Nat.le_refl _
  | c :: l => by unfold mks; split <;> simp [mks_le l]
theorem mks_skip : ∀ (l : List Nat) (k : Nat), (∀ i (_ : i < k) (h2 : i < l.length), l[i] ≠ 0) → ∀ h : k < l.length, l[k] = 0 → mks l = k
  | [], k, _, h, _ => by simp at h
  | c :: l, 0, _, h, h0 => by unfold mks; rw [if_pos (show c = 0 from h0)]
  | c :: l, k + 1, ha, h, h0 => by
    unfold mks
    rw [if_neg (show ¬ c = 0 from ha 0 (by omega) (by simp)), mks_skip l k (fun i h1 h2 => ha (i + 1) (by omega) (by simpa using h2)) (by simpa using h) h0]
theorem mks_all : ∀ (l : List Nat), (∀ i (h : i < l.length), l[i] ≠ 0) → mks l = l.length
  | [], _ => rfl
  | c :: l, ha => by
    unfold mks
    rw [if_neg (show ¬ c = 0 from ha 0 (by simp)), mks_all l (fun i h => ha (i + 1) (by simpa using h))]
    rfl
theorem mks_mark : ∀ (l : List Nat) (i : Nat) (_ : i < mks l) (h2 : i < l.length), l[i] ≠ 0
  | [], i, _, h2 => by simp at h2
  | c :: l, i, h, h2 => by
    unfold mks at h
    split at h
    · omega
    · rename_i hc
      cases i with
      | zero => exact hc
      | succ i => exact mks_mark l i (by omega) (by simpa using h2)
theorem mks_end : ∀ (l : List Nat) (h : mks l < l.length), l[mks l] = 0
  | [], h => by simp at h
  | c :: l, h => by
    by_cases hc : c = 0
    · have : mks (c :: l) = 0 := by unfold mks; rw [if_pos hc]
      simp only [this]
      exact hc
    · have : mks (c :: l) = mks l + 1 := by rw [mks, if_neg hc]
      rw [this] at h
      simp only [this]
      exact mks_end l (by simpa using h)

set_option maxRecDepth 100000 in
theorem index_prog (A : Option Addr) (n d : Nat) (l : List Nat) (w : World) (h : Rd w A d (ks l)) (hn : n = l.length) :
    Calls Tryz.prog 110 #[.slice A n d, .int .i64 0] w fun e w' => e = .returned (.int .i64 (if mks l < n then (mks l : Int) else -1)) ∧ w = w' := by
  have H := Lib.hid h
  have Hn := Lib.hid hn
  have hf := h.fit
  have hmx := h.max
  rw [ks_len, ← hn] at hf
  unfold maxLen at hmx
  have H1 := Lib.hid (mks_skip l)
  have H2 := Lib.hid (mks_all l)
  obtain ⟨q, hq⟩ : ∃ q : Int, (if mks l < n then (mks l : Int) else -1) = q := ⟨_, rfl⟩
  rw [hq]
  have HQ := Lib.hid hq
  clear h hn hq
  go_enter Tryz.func110, Tryz.ntmps110
  go_wp2_with fail
  go_loopw [8] (fun i wr => ∃ k : Nat, k ≤ n ∧ i = .int .i64 (k : Int) ∧ Hid (∀ i (h : i < k) (h2 : i < l.length), l[i] ≠ 0) ∧ wr = w) (fun i _ => n - (intOf i).toNat)
  case atStart => exact ⟨0, Nat.zero_le _, rfl, Lib.hid (fun i h => by omega), rfl⟩
  case round =>
    obtain ⟨k, hk, rfl, ha, rfl⟩ := hrel
    by_cases hlt : k < n
    · have hkl : k < l.length := by rw [← Hn.out]; exact hlt
      obtain ⟨a, rfl, _⟩ := H.out.ad (by omega)
      have hcell : wr.cell? (a.add k) = some (.int .i64 (l[k] : Int)) := H.out.cell a rfl k _ (ks_get l k hkl)
      have hA := Lib.hid (H1.out k ha.out hkl)
      have hB := Lib.hid (fun (h0 : l[k] ≠ 0) i (h : i < k + 1) (h2 : i < l.length) => show l[i] ≠ 0 from by
        by_cases e : i = k
        · subst e; exact h0
        · exact ha.out i (by omega) h2)
      clear H1 H2
      generalize hx : l[k] = x at *
      by_cases h0 : x = 0
      · subst h0
        have e := hA.out rfl
        have hqk : q = (k : Int) := by rw [← HQ.out, e, if_pos hlt]
        subst hqk
        clear hA hB ha e hx
        go_wp2_with fail
        go_ret
        exact ⟨rfl, rfl⟩
      · have hb : ((0 : Int) == (x : Int)) = false := by simp; omega
        have HB := Lib.hid (hB.out h0)
        clear hA hB ha hx
        go_wp2_with fail
        go_roundw
        case rel => exact ⟨k + 1, by omega, by go_num, HB, trivial⟩
        case measure => simp [intOf]; omega
    · obtain rfl : k = n := by omega
      have e := H2.out (fun i h => ha.out i (by rw [Hn.out]; exact h) h)
      have hqk : q = -1 := by rw [← HQ.out, e, ← Hn.out, if_neg (Nat.lt_irrefl _)]
      subst hqk
      clear H1 H2 ha e
      go_wp2_with fail
      go_ret
      exact ⟨rfl, rfl⟩

set_option maxRecDepth 100000 in
theorem marks_prog (A : Option Addr) (n d : Nat) (l : List Nat) (w : World) (h : Rd w A d (ks l)) (hn : n = l.length) :
    Calls Tryz.prog 92 #[.slice A n d] w fun e w' => e = .returned (.int .i64 (mks l : Int)) ∧ w = w' := by
  have C := Lib.hid (index_prog A n d l w h hn)
  have hle := mks_le l
  rw [← hn] at hle
  clear h hn
  generalize mks l = m at *
  by_cases hlt : m < n
  · rw [if_pos hlt] at C
    go_enter Tryz.func92, Tryz.ntmps92
    go_wp2_with fail
    refine C.out.mono ?_
    rintro e w2 ⟨rfl, rfl⟩
    go_wp2_with fail
    go_ret
    exact ⟨rfl, rfl⟩
  · rw [if_neg hlt] at C
    obtain rfl : m = n := by omega
    go_enter Tryz.func92, Tryz.ntmps92
    go_wp2_with fail
    refine C.out.mono ?_
    rintro e w2 ⟨rfl, rfl⟩
    go_wp2_with fail
    go_ret
    exact ⟨rfl, rfl⟩

end Go.Proofs.YtipemmjbgegmfaaGreatDoor

/- The program's order, plain: places are sorted row by row; whether a list is in order, step by step. -/
namespace Go.Proofs.YtipemmjbgegmfaaGreatDoor
open Go.Proofs.YtipemmjbgegmfaaGreatDoor.Ordr Go.Proofs.YtipemmjbgegmfaaGreatDoor.Stb
section plain
variable (cls : Nat → Nat)

theorem ins_end {z : Nat} (hz : cls z = 0) (c : Nat) : ∀ r, ins cls c (r ++ [z]) = ins cls c r ++ [z]
  | [] => by
    show ins cls c [z] = [c] ++ [z]
    unfold ins
    rw [if_neg (by omega)]; rfl
  | d :: r => by
    show ins cls c (d :: (r ++ [z])) = ins cls c (d :: r) ++ [z]
    unfold ins
    split
    · rw [ins_end hz c r]; rfl
    · simp
theorem kept_end {z : Nat} (hz : cls z = 0) (b : List Nat) : ∀ r, kept cls b (r ++ [z]) = kept cls b r ++ [z] := by
  induction b with
  | nil => intro r; rfl
  | cons c b ih =>
    intro r
    show kept cls b (ins cls c (r ++ [z])) = kept cls b (ins cls c r) ++ [z]
    rw [ins_end cls hz, ih]
theorem ord_cut (a b : List Nat) {z : Nat} (hz : cls z = 0) : ord cls (a ++ z :: b) = ord cls a ++ z :: ord cls b := by
  have h1 : kept cls (a ++ z :: b) [] = kept cls b [z] ++ kept cls a [] := by
    rw [kept_app]
    show kept cls b (ins cls z (kept cls a [])) = _
    rw [ins_zero cls hz]
    exact kept_wall cls hz (kept cls a []) b []
  have h2 := kept_end cls hz b []
  rw [List.nil_append] at h2
  unfold ord
  rw [h1, h2]
  simp

/-- A number by its place. -/
def byPlace (l : List Nat) (i : Nat) : Nat := l.getD i 0
theorem byPlace_get {l : List Nat} {i : Nat} (h : i < l.length) : byPlace l i = l[i] := by unfold byPlace; simp [h]
theorem map_range (l : List Nat) : ∀ (n k : Nat), k + n = l.length → (List.range' k n).map (byPlace l) = l.drop k
  | 0, k, h => by rw [List.drop_of_length_le (by omega)]; rfl
  | n + 1, k, h => by
    rw [List.range'_succ, List.map_cons, map_range l n (k + 1) (by omega), byPlace_get (by omega : k < l.length), ← List.drop_eq_getElem_cons]

/-- The places, ahead of place k in their order. -/
def PlOk (l : List Nat) (k : Nat) (Q : List Nat) : Prop :=
  (l.length ≤ k ∧ Q.map (byPlace l) = ord cls l) ∨ (k < l.length ∧ ∃ R, Q = R ++ List.range' k (l.length - k) ∧ R.length = k ∧ ∀ b, ord cls (l.take k ++ b) = R.map (byPlace l) ++ ord cls b)
theorem PlOk.zero (l : List Nat) : PlOk cls l 0 (List.range' 0 l.length) := by
  by_cases h : l = []
  · subst h; exact .inl ⟨Nat.le_refl _, rfl⟩
  · exact .inr ⟨List.length_pos_iff.2 h, [], by simp, rfl, fun b => by simp⟩
theorem PlOk.fin {l Q : List Nat} {k : Nat} (h : PlOk cls l k Q) (hk : l.length ≤ k) : Q.map (byPlace l) = ord cls l := by
  rcases h with h | h
  · exact h.2
  · omega

theorem srt_map {f : Nat → Nat} {r : List Nat} (h : srt (fun x => cls (f x)) r) : srt cls (r.map f) := List.pairwise_map.2 h
theorem arr_map {f : Nat → Nat} {r l : List Nat} (h : Arr (fun x => cls (f x)) r l) : Arr cls (r.map f) (l.map f) := by
  refine ⟨fun k => ?_, h.perm.map f⟩
  rw [List.filter_map, List.filter_map]
  exact congrArg (List.map f) (h.keep k)

theorem PlOk.step {l Q : List Nat} {k m : Nat} (h : PlOk cls l k Q) (hk : k < l.length) (hm : mks ((l.map cls).drop k) = m) :
    k + m ≤ l.length ∧ ∃ P L S, Q = P ++ (L ++ S) ∧ P.length = k ∧ L.length = m ∧
      ∀ L', srt (fun x => cls (byPlace l x)) L' → Arr (fun x => cls (byPlace l x)) L' L → PlOk cls l (k + m + 1) (P ++ (L' ++ S)) := by
  have hm0 := mks_le ((l.map cls).drop k)
  rw [hm, List.length_drop, List.length_map] at hm0
  have hkm : k + m ≤ l.length := by omega
  refine ⟨hkm, ?_⟩
  rcases h with h | ⟨_, R, hQ, hR, hord⟩
  · omega
  have hsp : List.range' k (l.length - k) = List.range' k m ++ List.range' (k + m) (l.length - (k + m)) := by
    rw [show l.length - k = m + (l.length - (k + m)) by omega, ← List.range'_append_1]
  refine ⟨R, List.range' k m, List.range' (k + m) (l.length - (k + m)), by rw [hQ, hsp], hR, by simp, fun L' hs ha => ?_⟩
  have hM : (List.range' k m).map (byPlace l) = (l.drop k).take m := by
    have := map_range l (l.length - k) k (by omega)
    rw [hsp, List.map_append] at this
    rw [← this, List.take_append_of_le_length (by simp), List.take_of_length_le (by simp)]
  have hz : ∀ x ∈ (l.drop k).take m, cls x ≠ 0 := fun x hx => by
    obtain ⟨i, hi, rfl⟩ := List.getElem_of_mem hx
    rw [List.length_take, List.length_drop] at hi
    have := mks_mark ((l.map cls).drop k) i (by omega) (by rw [List.length_drop, List.length_map]; omega)
    simpa using this
  have hrow : L'.map (byPlace l) = ord cls ((l.drop k).take m) := by
    refine ord_row cls hz (srt_map cls hs) ?_
    rw [← hM]
    exact arr_map cls ha
  by_cases he : k + m = l.length
  · refine .inl ⟨by omega, ?_⟩
    have e0 : l.length - (k + m) = 0 := by omega
    rw [e0]
    have hl := hord (l.drop k)
    rw [List.take_append_drop] at hl
    rw [hl]
    simp only [List.map_append, List.range'_zero, List.append_nil]
    rw [hrow, List.take_of_length_le (by rw [List.length_drop]; omega)]
  · have hlt : k + m < l.length := by omega
    have hzero : cls l[k + m] = 0 := by
      have := mks_end ((l.map cls).drop k) (by rw [hm, List.length_drop, List.length_map]; omega)
      simp only [hm] at this
      simpa using this
    have htk : l.take (k + m + 1) = l.take k ++ ((l.drop k).take m ++ [l[k + m]]) := by
      rw [List.take_succ_eq_append_getElem hlt, List.take_add, List.append_assoc]
    have hall : ∀ b, ord cls (l.take (k + m + 1) ++ b) = (R ++ (L' ++ [k + m])).map (byPlace l) ++ ord cls b := fun b => by
      rw [htk, List.append_assoc, List.append_assoc, hord, List.singleton_append, ord_cut cls _ _ hzero, ← hrow, List.map_append, List.map_append, List.map_singleton, byPlace_get hlt]
      simp
    have hrest : List.range' (k + m) (l.length - (k + m)) = (k + m) :: List.range' (k + m + 1) (l.length - (k + m + 1)) := by
      rw [show l.length - (k + m) = (l.length - (k + m + 1)) + 1 by omega, List.range'_succ]
    rw [hrest]
    by_cases he2 : k + m + 1 = l.length
    · refine .inl ⟨by omega, ?_⟩
      have hl := hall []
      rw [List.append_nil, List.take_of_length_le (by omega)] at hl
      rw [hl, show l.length - (k + m + 1) = 0 by omega]
      simp [ord, kept]
    · refine .inr ⟨by omega, R ++ (L' ++ [k + m]), by simp, ?_, hall⟩
      have := ha.len
      simp only [List.length_append, List.length_range', List.length_singleton] at this ⊢
      omega

/-- The class right ahead of place k. -/
def ahead (l : List Nat) : Nat → Nat
  | 0 => 0
  | k + 1 => cls (byPlace l k)
theorem is_step {l : List Nat} {k : Nat} (h : k < l.length) : ordB cls (l.take (k + 1)) = ((cls l[k] == 0 || decide (ahead cls l k ≤ cls l[k])) && ordB cls (l.take k)) := by
  cases k with
  | zero =>
    cases l with
    | nil => simp at h
    | cons x t => simp [ahead, ordB, upB]
  | succ k =>
    rw [ordB_step cls h]
    show _ = ((_ || decide (cls (byPlace l k) ≤ _)) && _)
    rw [byPlace_get (by omega : k < l.length)]
end plain
end Go.Proofs.YtipemmjbgegmfaaGreatDoor

/- The program's order: the comparison, Is, Order. -/
namespace Go.Proofs.YtipemmjbgegmfaaGreatDoor
open Go.RowKit Go.Proofs.YtipemmjbgegmfaaGreatDoor.Ordr Go.Proofs.YtipemmjbgegmfaaGreatDoor.Stb

theorem nan_int (a : Int) (w : World) : Calls Tryz.prog 109 #[.int .i64 a] w fun e w' => e = .returned (.bool false) ∧ w = w' := by
  go_enter Tryz.func109, Tryz.ntmps109
  go_wp2
  go_ret
  exact ⟨ret_val (by simp), rfl⟩
def sg (a b : Nat) : Int := if a < b then -1 else if b < a then 1 else 0
theorem sg_less (a b : Nat) : sg a b < 0 ↔ a < b := by
  unfold sg
  split
  · rename_i h; simp [h]
  · rename_i h
    split <;> simp [h]
theorem compare_int (a b : Nat) (w : World) : Calls Tryz.prog 91 #[.int .i64 (a : Int), .int .i64 (b : Int)] w fun e w' => e = .returned (.int .i64 (sg a b)) ∧ w = w' := by
  unfold sg
  by_cases h1 : a < b
  · rw [if_pos h1]
    go_enter Tryz.func91, Tryz.ntmps91
    go_wp2_with fail
    refine (nan_int _ _).mono ?_
    rintro e w1 ⟨rfl, rfl⟩
    go_wp2_with fail
    refine (nan_int _ _).mono ?_
    rintro e w1 ⟨rfl, rfl⟩
    go_wp2_with fail
    go_ret
    exact ⟨rfl, rfl⟩
  · rw [if_neg h1]
    by_cases h2 : b < a
    · rw [if_pos h2]
      go_enter Tryz.func91, Tryz.ntmps91
      go_wp2_with fail
      refine (nan_int _ _).mono ?_
      rintro e w1 ⟨rfl, rfl⟩
      go_wp2_with fail
      refine (nan_int _ _).mono ?_
      rintro e w1 ⟨rfl, rfl⟩
      go_wp2_with fail
      go_ret
      exact ⟨rfl, rfl⟩
    · rw [if_neg h2]
      go_enter Tryz.func91, Tryz.ntmps91
      go_wp2_with fail
      refine (nan_int _ _).mono ?_
      rintro e w1 ⟨rfl, rfl⟩
      go_wp2_with fail
      refine (nan_int _ _).mono ?_
      rintro e w1 ⟨rfl, rfl⟩
      go_wp2_with fail
      go_ret
      exact ⟨rfl, rfl⟩

set_option maxRecDepth 100000 in
theorem rise_fn (C : Option Addr) (n dC b x y : Nat) (X : List Nat) (w : World) (h : Rd w C dC (ks X)) (hn : n = X.length) (hx : x < n) (hy : y < n) (hb : At w b (.slice C n dC)) :
    Calls Tryz.prog 90 #[.int .i64 (x : Int), .int .i64 (y : Int), .pointer (some ⟨b, 0, none⟩)] w fun e w' => e = .returned (.int .i64 (sg (X[x]'(by omega)) (X[y]'(by omega)))) ∧ Up w w' := by
  obtain ⟨a, rfl, _⟩ := h.ad (by have := h.fit; rw [ks_len] at this; omega)
  have hc1 := Lib.hid (fun w' (u : Up w w') => And.intro (hb.up u).2 (And.intro ((h.up u).cell a rfl x _ (ks_get X x (by omega))) ((h.up u).cell a rfl y _ (ks_get X y (by omega)))))
  have HC := Lib.hid compare_int
  clear h hb
  generalize X[x] = p at *
  generalize X[y] = q at *
  clear hn
  go_enter Tryz.func90, Tryz.ntmps90
  go_wp2_with fail
  refine wp_region_pi [(0, false), (1, false), (2, false), (3, false), (4, false), (5, false), (6, false), (7, false), (8, true), (9, false)] (by kernel_rfl) (by kernel_rfl) (fun _ _ d _ _ h => by cases d <;> exact h) ?_
  iterate 8 (((with_reducible apply pi_take); (focus exact rfl); (focus exact rfl); (focus (intro w' hu; obtain ⟨k1, k2, k3⟩ := hc1.out w' (Up.of_drew hu); go_simp; try with_reducible rfl; done))); (simp only [Act.put, List.setIfInBounds_toArray, List.set_cons_succ, List.set_cons_zero]))
  refine pi_make rfl rfl (fun K hK => ?_)
  go_simp
  refine (HC.out p q _).mono ?_
  rintro e w2 ⟨rfl, rfl⟩
  refine hK.out _ _ (Up.refl _) ?_
  clear hK K
  iterate 1 (((with_reducible apply pi_take); (focus exact rfl); (focus exact rfl); (focus (intro w' hu; go_simp; try with_reducible rfl; done))); (simp only [Act.put, List.setIfInBounds_toArray, List.set_cons_succ, List.set_cons_zero]))
  refine pi_done ?_
  go_wp2_with fail
  go_ret
  exact ⟨rfl, (Up.refl w).drew⟩

theorem szK (w : World) : (sizeOf (Tryz.prog.elem 111)).run Tryz.prog w = .ok 1 w := by kernel_rfl
/-- 'l[k:]' of whole numbers. -/
theorem Rd.tailK {w : World} {A : Option Addr} {c : Nat} {l : List Nat} (h : Rd w A c (ks l)) (n k : Nat) (hn : n = l.length) (hk : k ≤ n) :
    ∃ A', (∀ w', (Instr.slice 111 (.slice A n c) (some (.int .i64 k)) none none).run Tryz.prog w' = .ok (.slice A' (n - k) (c - k)) w') ∧ Rd w A' (c - k) (ks (l.drop k)) := by
  have hf := h.fit
  rw [ks_len] at hf
  refine ⟨if c = k then A else A.map (·.add (k * 1)), fun w' => ?_, ?_⟩
  · rw [run_slice_l w' 111 A n c uKe .i64 k (by omega) (by omega), szK]
    simp [sliced]
  · have := h.sub (lo := k) (hi := n) (m := c) hk (by rw [ks_len]; omega) (by omega) (by omega)
    rw [ks_drop, List.take_of_length_le (by rw [ks_len, List.length_drop]; omega)] at this
    simpa using this
theorem cut_places (g n k to : Nat) (h1 : k < n) (h2 : k ≤ to) (h3 : to ≤ n) (w : World) : (Instr.slice 111 (.slice (some ⟨g, 0, none⟩) n n) (some (.int .i64 (k : Int))) (some (.int .i64 (to : Int))) none).run Tryz.prog w = .ok (.slice (some ⟨g, k, none⟩) (to - k) (n - k)) w := by
  rw [run_slice_lh w 111 _ n n uKe .i64 .i64 k to (by omega) (by omega) (by omega), szK]
  have hadd : (⟨g, 0, none⟩ : Addr).add k = ⟨g, k, none⟩ := by unfold Addr.add; split <;> simp_all
  have : n ≠ k := by omega
  simp [sliced, hadd, this]

theorem range_get (n k : Nat) (h : k < n) : (List.range' 0 n)[k]'(by simp; exact h) = k := by simp

end Go.Proofs.YtipemmjbgegmfaaGreatDoor

/- The program's order: Order; what is asked of it. -/
namespace Go.Proofs.YtipemmjbgegmfaaGreatDoor
open Go.RowKit Go.Proofs.YtipemmjbgegmfaaGreatDoor.Ordr Go.Proofs.YtipemmjbgegmfaaGreatDoor.Stb

theorem us_map_get (l Q X : List Nat) (h : Q.map (byPlace l) = X) (k : Nat) (h1 : k < Q.length) (h2 : k < X.length) (h3 : Q[k] < l.length) : X[k] = l[Q[k]] := by
  subst h
  rw [List.getElem_map, byPlace_get h3]
theorem us_set2 (l : List Nat) (j z : Nat) : (us l).set j (.int .u32 (z : Int)) = us (l.set j z) := by
  unfold us
  rw [List.map_set]

theorem Pat.zoom {W w : World} {g N D : Nat} {P L S : List Nat} (h : Pat W g N D [] [] (P ++ (L ++ S)) w) : Pat W g N D P S L w :=
  ⟨by have := h.own; simpa using this, h.up, h.pos, by have := h.low; simpa using this⟩
theorem Pat.wide {W w : World} {g N D : Nat} {P L S : List Nat} (h : Pat W g N D P S L w) : Pat W g N D [] [] (P ++ (L ++ S)) w :=
  ⟨by have := h.own; simpa using this, h.up, h.pos, by have := h.low; simpa using this⟩
theorem rise_ok (C : Option Addr) (n dC b : Nat) (l : List Nat) (W : World) (h : Rd W C dC (ks (l.map clsOf))) (hn : (l.map clsOf).length = n) (hb : At W b (.slice C n dC)) :
    CmpOk 90 (.pointer (some ⟨b, 0, none⟩)) W n (fun x => clsOf (byPlace l x)) (fun x y => sg (clsOf (byPlace l x)) (clsOf (byPlace l y))) where
  enter := enters_of Tryz.func90 (by kernel_rfl) rfl
  call := fun x y w hx hy u => by
    have hl : l.length = n := by rw [← hn, List.length_map]
    have := rise_fn C n dC b x y (l.map clsOf) w (h.up u) hn.symm hx hy (hb.up u)
    rw [List.getElem_map, List.getElem_map, ← byPlace_get (by omega : x < l.length), ← byPlace_get (by omega : y < l.length)] at this
    exact this
  less := fun x y => sg_less _ _

/-- Behind the sort of the rows ahead of place k. -/
def PlI (W : World) (g n : Nat) (l : List Nat) (i : Value) (wr : World) : Prop :=
  ∃ k Q, i = .int .i64 ((k : Nat) : Int) ∧ k ≤ n + 1 ∧ Hid (PlOk clsOf l k Q) ∧ Hid (Pat W g n n [] [] Q wr)

set_option maxRecDepth 100000 in
set_option maxHeartbeats 3200000 in
theorem order_prog (A : Option Addr) (n d : Nat) (l : List Nat) (w : World) (h : Rd w A d (us l)) (hn : n = l.length) (hmax : n ≤ 1000000000) :
    Calls Tryz.prog 70 #[.slice A n d] w (Gives (ord clsOf l) w) := by
  have H := Lib.hid h
  have Hn := Lib.hid hn
  have hf := h.fit
  rw [us_len, ← hn] at hf
  have HC := Lib.hid (classes_prog A n d l w h hn hmax)
  have HXL := Lib.hid (show (l.map clsOf).length = n by rw [List.length_map, hn])
  clear h hn
  go_enter Tryz.func70, Tryz.ntmps70
  go_wp2_with fail
  refine HC.out.mono ?_
  rintro e w1 ⟨C, dC, rfl, hownC, hu1⟩
  rw [HXL.out] at hownC ⊢
  have HOC := Lib.hid hownC
  have HU1 := Lib.hid hu1
  clear hownC hu1
  obtain ⟨w3, hmk, hownP, hu3, _⟩ := made_ints (w1.alloc (.cells #[.slice C n dC] 111)) n hmax
  have HBOX := Lib.hid (show At (w1.alloc (.cells #[.slice C n dC] 111)) w1.heap.size (.slice C n dC) from At.new _ _ _)
  have HRD := Lib.hid (show Rd (w1.alloc (.cells #[.slice C n dC] 111)) C dC (ks (l.map clsOf)) from (own_read HOC.out).up ((Up.refl _).alloc _))
  have HU2 := Lib.hid (show Up w (w1.alloc (.cells #[.slice C n dC] 111)) from HU1.out.alloc _)
  clear HOC HU1 HC
  have HO := Lib.hid hownP
  clear hownP
  go_wp2_with fail
  clear hmk
  have hWg : (w1.alloc (.cells #[.slice C n dC] 111)).heap.size = w1.heap.size + 1 := by simp
  generalize w1.alloc (.cells #[.slice C n dC] 111) = W at *
  generalize w1.heap.size = b at *
  generalize b + 1 = g at *
  have HPOS := Lib.hid (Nat.le_of_eq hWg)
  have HO := Lib.hid (show w3.ownsRow W.heap.size 3 1 (.slice (some ⟨g, 0, none⟩) n n) n (ks (List.replicate n 0)) by rw [← hWg]; exact HO.out)
  clear hWg
  go_loopw [19] (fun i wr => ∃ k : Nat, k ≤ n ∧ i = .int .i64 (k : Int) ∧ Hid (wr.ownsRow W.heap.size 3 1 (.slice (some ⟨g, 0, none⟩) n n) n (ks ((List.range' 0 n).take k ++ List.replicate (n - k) 0))) ∧ Hid (Up W wr)) (fun i _ => n - (intOf i).toNat)
  case atStart => exact ⟨0, Nat.zero_le _, rfl, by rw [List.take_zero, List.nil_append, Nat.sub_zero]; exact HO, Lib.hid hu3⟩
  case round =>
    obtain ⟨k, hk, rfl, hown, hu⟩ := hrel
    clear HO hu3
    by_cases hlt : k < n
    · have hst := owk_bump hown.out k k
      have hlay := lay_nat (List.range' 0 n) n k (by simp; exact hlt) (by simp)
      rw [range_get n k hlt] at hlay
      rw [hlay] at hst
      have HST := Lib.hid hst
      have hfr : wr.frozen? ⟨g, k, none⟩ = false := hown.out.frozenAt k
      obtain ⟨vx, hcx⟩ : ∃ v, wr.cell? ⟨g, k, none⟩ = some v := by
        have hk2 : k < ((List.range' 0 n).take k ++ List.replicate (n - k) 0).length := by rw [List.length_append, List.length_take, List.length_range', List.length_replicate]; omega
        exact ⟨_, (hown.out.cellAt k (by omega)).trans (ks_get _ k hk2)⟩
      have HU := Lib.hid (Up.setCell hu.out HPOS.out k (.int .i64 (k : Int)))
      clear hown hst hlay hu
      go_wp2_with fail
      go_roundw
      case rel => exact ⟨k + 1, by omega, by go_num, HST, HU⟩
      case measure => simp [intOf]; omega
    · obtain rfl : k = n := by omega
      have hPat : Pat W g k k [] [] (List.range' 0 k) wr := by
        refine ⟨?_, hu.out, HPOS.out, fun x hx => by simpa using hx⟩
        have := hown.out
        rw [Nat.sub_self, List.replicate_zero, List.append_nil, List.take_of_length_le (by simp)] at this
        simpa using this
      have HP := Lib.hid hPat
      have HZ := Lib.hid (show PlOk clsOf l 0 (List.range' 0 k) by rw [Hn.out]; exact PlOk.zero clsOf l)
      clear hPat hown hu hlt hk
      go_wp2_with fail
      rename World => wo
      go_loopw [7] (fun i wr => PlI W g k l i wr) (fun i _ => k + 1 - (intOf i).toNat)
      case atStart => exact ⟨0, _, rfl, Nat.zero_le _, HZ, HP⟩
      case round =>
        obtain ⟨q, Q, rfl, hq, hPl, hPat⟩ := hrel
        clear HZ HP
        by_cases hlt : q < k
        · obtain ⟨m, hm⟩ : ∃ m, mks ((l.map clsOf).drop q) = m := ⟨_, rfl⟩
          obtain ⟨hle, P, L, S, rfl, hP, hL, hnext⟩ := hPl.out.step clsOf (by rw [← Hn.out]; exact hlt) hm
          rw [← Hn.out] at hle
          obtain ⟨to, hto⟩ : ∃ to, q + m = to := ⟨_, rfl⟩
          have hti : (q : Int) + (m : Int) = (to : Int) := by omega
          have hto1 : q ≤ to := by omega
          have hto2 : to ≤ k := by omega
          have hbox := (HBOX.out.up hPat.out.up).2
          obtain ⟨C', hslC, hrC⟩ := Rd.tailK (HRD.out.up hPat.out.up) k q HXL.out.symm (by omega)
          have cm := marks_prog C' (k - q) (dC - q) ((l.map clsOf).drop q) wr hrC (by rw [List.length_drop, HXL.out])
          rw [hm] at cm
          have CM := Lib.hid cm
          have hslP := cut_places g k q to hlt hto1 hto2
          rw [show to - q = m by omega] at hslP
          have CS := Lib.hid (sort_fn (rise_ok C k dC b l W HRD.out HXL.out HBOX.out) L q m (k - q) wr hPat.out.zoom hP.symm hL.symm hmax)
          rw [hto] at hnext
          have HX := Lib.hid hnext
          clear hPl hPat hm hP hL hnext hto hle hrC cm
          go_wp2_with fail
          refine CM.out.mono ?_
          rintro e w4 ⟨rfl, rfl⟩
          go_wp2_with fail
          refine CS.out.mono ?_
          rintro e w5 ⟨rfl, R, hs, ha, hp⟩
          have HN := Lib.hid (HX.out R hs ha)
          have HP2 := Lib.hid hp.wide
          clear hs ha hp HX
          go_wp2_with fail
          go_roundw
          case rel => exact ⟨to + 1, _, by go_num, by omega, HN, HP2⟩
          case measure => simp [intOf]; omega
        · have hfin := hPl.out.fin clsOf (by rw [← Hn.out]; omega)
          obtain ⟨X, hX⟩ : ∃ X, ord clsOf l = X := ⟨_, rfl⟩
          have hXl : X.length = k := by rw [← hX, ord_len, Hn.out]
          rw [hX] at hfin
          have HXE := Lib.hid hX
          have hQl : Q.length = k := by rw [← List.length_map (f := byPlace l), hfin, hXl]
          have HXG := Lib.hid (fun j (h1 : j < Q.length) (h2 : j < X.length) (h3 : Q[j] < l.length) => us_map_get l Q X hfin j h1 h2 h3)
          have HXLEN := Lib.hid hXl
          have HQ := Lib.hid hQl
          have HLOW := Lib.hid (fun j (h : j < Q.length) => hPat.out.is (List.getElem_mem h))
          have HCELL := Lib.hid (fun w' (u : Up wr w') j (h : j < Q.length) => show w'.cell? ⟨g, j, none⟩ = some (.int .i64 (Q[j] : Int)) from by
            have h1 := (hPat.out.go u).own
            rw [h1.cellAt j (by have := HQ.out; omega)]
            simpa using ks_get Q j h)
          obtain ⟨w6, hmk, hown, hu6⟩ := made_nums wr w.heap.size k (Nat.le_trans HU2.out.size hPat.out.up.size) hmax
          have HO := Lib.hid hown
          have HU := Lib.hid (HU2.out.trans hPat.out.up)
          clear hfin hX hXl hQl hown hPl hPat
          go_wp2_with fail
          clear hmk
          generalize wr = wA at *
          generalize hh0 : wA.heap.size = h0 at *
          have HH0 := Lib.hid (Nat.le_of_eq hh0)
          clear hh0
          go_loopw [51] (fun i wr => ∃ j : Nat, j ≤ k ∧ i = .int .i64 (j : Int) ∧ Hid (wr.ownsRow w.heap.size 28 1 (.slice (some ⟨h0, 0, none⟩) k k) k (us (X.take j ++ List.replicate (k - j) 0))) ∧ Hid (Up wA wr)) (fun i _ => k - (intOf i).toNat)
          case atStart => exact ⟨0, Nat.zero_le _, rfl, by rw [List.take_zero, List.nil_append, Nat.sub_zero]; exact HO, Lib.hid hu6⟩
          case round =>
            obtain ⟨j, hj, rfl, hown, hu⟩ := hrel
            clear HO hu6
            by_cases hlt : j < k
            · have hjQ : j < Q.length := by rw [HQ.out]; exact hlt
              have hjX : j < X.length := by rw [HXLEN.out]; exact hlt
              have hpl : Q[j] < k := HLOW.out j hjQ
              have hpl2 : Q[j] < l.length := by rw [← Hn.out]; exact hpl
              obtain ⟨a, rfl, _⟩ := H.out.ad (by omega)
              have hc1 : wr.cell? ⟨g, j, none⟩ = some (.int .i64 (Q[j] : Int)) := HCELL.out wr hu.out j hjQ
              have hc2 : wr.cell? (a.add Q[j]) = some (.int .u32 (l[Q[j]] : Int)) := (H.out.up (HU.out.trans hu.out)).cell a rfl _ _ (us_get l _ hpl2)
              have hst := (hown.out.stored j (.int .u32 (X[j] : Int))).1
              rw [us_set2, lay_nat X k j hjX HXLEN.out, HXG.out j hjQ hjX hpl2] at hst
              have HST := Lib.hid hst
              have hfr : wr.frozen? ⟨h0, j, none⟩ = false := hown.out.frozenAt j
              obtain ⟨vx, hcx⟩ : ∃ v, wr.cell? ⟨h0, j, none⟩ = some v := by
                have hk2 : j < (X.take j ++ List.replicate (k - j) 0).length := by rw [List.length_append, List.length_take, List.length_replicate]; omega
                exact ⟨_, (hown.out.cellAt j (by omega)).trans (us_get _ j hk2)⟩
              have HU3 := Lib.hid (Up.setCell hu.out HH0.out j (.int .u32 (l[Q[j]] : Int)))
              clear hown hst hu HXG
              generalize l[Q[j]] = v at *
              generalize Q[j] = pl at *
              go_wp2_with fail
              go_roundw
              case rel => exact ⟨j + 1, by omega, by go_num, HST, HU3⟩
              case measure => simp [intOf]; omega
            · obtain rfl : j = k := by omega
              have hr := hown.out
              rw [Nat.sub_self, List.replicate_zero, List.append_nil, List.take_of_length_le (by rw [HXLEN.out]; omega)] at hr
              have HR := Lib.hid hr
              clear hr hown HXG
              go_wp2_with fail
              go_ret
              exact Gives.of (n := j) (by rw [HXE.out]; exact HXLEN.out.symm) (by rw [HXE.out]; exact HR.out) (HU.out.trans hu.out)

end Go.Proofs.YtipemmjbgegmfaaGreatDoor
