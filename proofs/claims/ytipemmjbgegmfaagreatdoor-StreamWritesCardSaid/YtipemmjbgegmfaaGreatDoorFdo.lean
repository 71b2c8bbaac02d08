/- Fdo: one text of Fud Fua Fub. -/
import Derived.Test.YtipemmjbgegmfaaGreatDoorUnm
import Derived.Test.YtipemmjbgegmfaaGreatDoorUpr

/- What the table of decompositions alone says: no row tells of syllables and their letters. -/
namespace Go.Proofs.YtipemmjbgegmfaaGreatDoor
open Go.RowKit

/-- No syllable, no letter of one, and a code point. -/
def plainC (c : Nat) : Bool := bif Nat.ble c 1114111 then bif Nat.ble 44032 c then bif Nat.ble c 57343 then false else true else bif Nat.ble 4352 c then bif Nat.ble c 4607 then false else true else true else false

theorem plain_iff (c : Nat) : plainC c = true ↔ c ≤ 1114111 ∧ ¬ (44032 ≤ c ∧ c ≤ 57343) ∧ ¬ (4352 ≤ c ∧ c ≤ 4607) := by
  unfold plainC
  cases h1 : Nat.ble c 1114111 with
  | false =>
    have : ¬ c ≤ 1114111 := fun h => by rw [Nat.ble_eq_true_of_le h] at h1; exact Bool.noConfusion h1
    simp [this]
  | true =>
    have g1 := Nat.le_of_ble_eq_true h1
    rw [cond_true]
    cases h2 : Nat.ble 44032 c with
    | true =>
      have g2 := Nat.le_of_ble_eq_true h2
      rw [cond_true]
      cases h3 : Nat.ble c 57343 with
      | true =>
        have g3 := Nat.le_of_ble_eq_true h3
        simp; omega
      | false =>
        have g3 : ¬ c ≤ 57343 := fun h => by rw [Nat.ble_eq_true_of_le h] at h3; exact Bool.noConfusion h3
        simp; omega
    | false =>
      have g2 : ¬ 44032 ≤ c := fun h => by rw [Nat.ble_eq_true_of_le h] at h2; exact Bool.noConfusion h2
      rw [cond_false]
      cases h3 : Nat.ble 4352 c with
      | false =>
        have g3 : ¬ 4352 ≤ c := fun h => by rw [Nat.ble_eq_true_of_le h] at h3; exact Bool.noConfusion h3
        simp; omega
      | true =>
        have g3 := Nat.le_of_ble_eq_true h3
        rw [cond_true]
        cases h4 : Nat.ble c 4607 with
        | true =>
          have g4 := Nat.le_of_ble_eq_true h4
          simp; omega
        | false =>
          have g4 : ¬ c ≤ 4607 := fun h => by rw [Nat.ble_eq_true_of_le h] at h4; exact Bool.noConfusion h4
          simp; omega

theorem plain_chk : allRows (fun l => force (f5 0 l) fun c => force (f5 5 l) fun a => force (f5 10 l) fun b => bif plainC c then (bif plainC a then plainC b else false) else false) 16 2061 decS.data.toList = true := by kernel_rfl
structure RowP (x : Nat) : Prop where
  key : plainC x = true
  a : plainC (decA x) = true
  b : plainC (decB x) = true
theorem row_p {x : Nat} (hx : rowOf x ≠ 0) : RowP x := by
  obtain ⟨i, hi, hx1, hx2, hx3, hx4⟩ := row_at hx
  have hr := allRows_at _ 16 2061 _ i plain_chk hi
  simp only [force_eq, hx1, hx2, hx3] at hr
  cases p1 : plainC x with
  | false => rw [p1] at hr; exact Bool.noConfusion hr
  | true =>
  rw [p1, cond_true] at hr
  cases p2 : plainC (decA x) with
  | false => rw [p2] at hr; exact Bool.noConfusion hr
  | true =>
  rw [p2, cond_true] at hr
  exact ⟨p1, p2, hr⟩

end Go.Proofs.YtipemmjbgegmfaaGreatDoor

/- What the tables say of full decompositions, row by row: the tests. -/
namespace Go.Proofs.YtipemmjbgegmfaaGreatDoor
open Go.RowKit

/-- The number in a tree of triples whose first part is x; 0: there is none. -/
def Tr.seek (x : Nat) : Tr → Nat
  | .leaf => 0
  | .node l v r => force (Nat.shiftRight v 50) fun k => bif Nat.beq k x then v else bif Nat.blt x k then l.seek x else r.seek x
theorem Tr.seek_has (x : Nat) : ∀ t : Tr, t.seek x = 0 ∨ (t.has (t.seek x) ∧ Nat.shiftRight (t.seek x) 50 = x)
  | .leaf => .inl rfl
  | .node l v r => by
    unfold Tr.seek
    rw [force_eq]
    cases h1 : Nat.beq (Nat.shiftRight v 50) x with
    | true =>
      rw [cond_true]
      exact .inr ⟨.inl rfl, Nat.eq_of_beq_eq_true h1⟩
    | false =>
      rw [cond_false]
      cases h2 : Nat.blt x (Nat.shiftRight v 50) with
      | true =>
        rw [cond_true]
        rcases Tr.seek_has x l with h | ⟨h, k⟩
        · exact .inl h
        · exact .inr ⟨.inr (.inl h), k⟩
      | false =>
        rw [cond_false]
        rcases Tr.seek_has x r with h | ⟨h, k⟩
        · exact .inl h
        · exact .inr ⟨.inr (.inr h), k⟩
/-- The number in a tree of triples between whose first and second parts x lies. -/
def Tr.seekR (x : Nat) : Tr → Nat
  | .leaf => 0
  | .node l v r => bif Nat.blt x (Nat.shiftRight v 50) then l.seekR x else bif Nat.ble x (Nat.land (Nat.shiftRight v 25) 33554431) then v else r.seekR x
theorem Tr.seekR_has (x : Nat) : ∀ t : Tr, t.seekR x = 0 ∨ (t.has (t.seekR x) ∧ Nat.shiftRight (t.seekR x) 50 ≤ x ∧ x ≤ Nat.land (Nat.shiftRight (t.seekR x) 25) 33554431)
  | .leaf => .inl rfl
  | .node l v r => by
    unfold Tr.seekR
    cases h1 : Nat.blt x (Nat.shiftRight v 50) with
    | true =>
      rw [cond_true]
      rcases Tr.seekR_has x l with h | ⟨h, k⟩
      · exact .inl h
      · exact .inr ⟨.inr (.inl h), k⟩
    | false =>
      rw [cond_false]
      cases h2 : Nat.ble x (Nat.land (Nat.shiftRight v 25) 33554431) with
      | true =>
        rw [cond_true]
        refine .inr ⟨.inl rfl, ?_, Nat.le_of_ble_eq_true h2⟩
        have : ¬ x < Nat.shiftRight v 50 := fun h => by
          have := Nat.ble_eq_true_of_le (show x + 1 ≤ Nat.shiftRight v 50 from h)
          unfold Nat.blt at h1
          rw [show Nat.ble x.succ (Nat.shiftRight v 50) = true from this] at h1
          exact Bool.noConfusion h1
        omega
      | false =>
        rw [cond_false]
        rcases Tr.seekR_has x r with h | ⟨h, k⟩
        · exact .inl h
        · exact .inr ⟨.inr (.inr h), k⟩

def tripA (v : Nat) : Nat := Nat.shiftRight v 50
def tripB (v : Nat) : Nat := Nat.land (Nat.shiftRight v 25) 33554431
def tripC (v : Nat) : Nat := Nat.land v 33554431
theorem trip_A {a b c : Nat} (hb : b < 33554432) (hc : c < 33554432) : tripA (trip a b c) = a := by
  unfold tripA trip
  rw [show Nat.shiftRight ((a * 33554432 + b) * 33554432 + c) 50 = ((a * 33554432 + b) * 33554432 + c) >>> 50 from rfl, Nat.shiftRight_eq_div_pow]
  omega
theorem trip_B {a b c : Nat} (hb : b < 33554432) (hc : c < 33554432) : tripB (trip a b c) = b := by
  unfold tripB trip
  rw [show Nat.land (Nat.shiftRight ((a * 33554432 + b) * 33554432 + c) 25) 33554431 = (((a * 33554432 + b) * 33554432 + c) >>> 25) &&& (2 ^ 25 - 1) from rfl, Nat.shiftRight_eq_div_pow, Nat.and_two_pow_sub_one_eq_mod]
  omega
theorem trip_C {a b c : Nat} (hc : c < 33554432) : tripC (trip a b c) = c := by
  unfold tripC trip
  rw [show Nat.land ((a * 33554432 + b) * 33554432 + c) 33554431 = ((a * 33554432 + b) * 33554432 + c) &&& (2 ^ 25 - 1) from rfl, Nat.and_two_pow_sub_one_eq_mod]
  omega

/-- The first one, the last one of a full decomposition, by the tree; its width. -/
def firstT (K : Nat) (D : Tr) : Nat → Nat → Nat
  | 0, x => x
  | n + 1, x => bif bit K x then force (D.seek x) fun v => force (tripB v) fun a => firstT K D n a else x
def lastT (K : Nat) (D : Tr) : Nat → Nat → Nat
  | 0, x => x
  | n + 1, x => bif bit K x then force (D.seek x) fun v => force (tripC v) fun b => bif Nat.beq b 0 then force (tripB v) fun a => lastT K D n a else b else x
def widU (c : Nat) : Nat := bif Nat.blt c 128 then 1 else bif Nat.blt c 2048 then 2 else bif Nat.blt c 65536 then 3 else 4
def widT (K : Nat) (D : Tr) : Nat → Nat → Nat
  | 0, x => widU x
  | n + 1, x => bif bit K x then force (D.seek x) fun v => force (tripC v) fun b => force (tripB v) fun a => bif Nat.beq b 0 then widT K D n a else Nat.add (widT K D n a) (widU b) else widU x

/-- What is tested of a row. K: the keys; KC: those that are composed again; C: what has a class; S: the second ones; D: the decompositions; T: the classes. -/
def rowOk (K KC C S : Nat) (D T : Tr) (l : List UInt8) : Bool :=
  force (f5 0 l) fun c => force (f5 5 l) fun a => force (f5 10 l) fun b =>
  bif Nat.beq (D.seek c) 0 then false else
  bif plainC c then (bif plainC a then (bif plainC b then
    (bif Nat.ble (widT K D 3 c) (Nat.mul 3 (widU c)) then
      (bif (bif Nat.beq b 0 then true else bif bit C b then force (lastT K D 3 a) fun x => bif bit C x then force (tripC (T.seekR x)) fun k => bif Nat.beq k 0 then false else Nat.ble k (tripC (T.seekR b)) else true else true) then
        (bif isC l then
          (bif bit K a then bit KC a else true) && (bif Nat.ble (widU c) (Nat.add (widU a) (widU b)) then force (firstT K D 3 a) fun f => bif bit C f then false else bif bit S f then false else true else false)
        else true)
      else false)
    else false) else false) else false) else false

theorem rows_chk : maskK ofKey 16 2061 decS.data.toList 0 (fun K => maskK (fun l => bif isC l then ofKey l else 0) 16 2061 decS.data.toList 0 (fun KC =>
    maskK ofRange 12 388 clsS.data.toList 0 (fun C => maskK (fun l => Nat.shiftLeft 1 (f5 5 l)) 15 941 parS.data.toList 0 (fun S =>
      rowsK (fun _ => true) (fun l => trip (f5 0 l) (f5 5 l) (f5 10 l)) 16 2061 decS.data.toList (fun L => treeK 12 L fun D _ =>
        rowsK (fun _ => true) (fun l => trip (f5 0 l) (f5 5 l) (num ((l.drop 10).take 2))) 12 388 clsS.data.toList (fun M => treeK 9 M fun T _ =>
          allRows (rowOk K KC C S D T) 16 2061 decS.data.toList)))))) = true := by kernel_rfl

end Go.Proofs.YtipemmjbgegmfaaGreatDoor

/- What the tables say of full decompositions: what the tests mean. -/
namespace Go.Proofs.YtipemmjbgegmfaaGreatDoor
open Go.RowKit

theorem cls_at {c r : Nat} (hr : r < 388) (h1 : key clsS.data.toList 12 r ≤ c) (h2 : c ≤ fld clsS.data.toList 12 r 5 5) : clsOf c = fld clsS.data.toList 12 r 10 2 := by
  have hk : rank clsL 12 c 388 = r + 1 := last_uniq (rank_last cls_rising c) ⟨hr, fun _ => by rw [Nat.add_sub_cancel]; exact h1, fun i g1 g2 => by
    have := cls_apart r i (by omega) g2; omega⟩
  unfold clsOf
  rw [hk, if_neg (Nat.succ_ne_zero r), Nat.add_sub_cancel]
  unfold clsL
  rw [if_neg (by omega)]

/-- The first one, the last one of a full decomposition; its width. -/
noncomputable def firstN : Nat → Nat → Nat
  | 0, x => x
  | n + 1, x => if rowOf x = 0 then x else firstN n (decA x)
noncomputable def lastN : Nat → Nat → Nat
  | 0, x => x
  | n + 1, x => if rowOf x = 0 then x else if decB x = 0 then lastN n (decA x) else decB x
noncomputable def widN : Nat → Nat → Nat
  | 0, x => widU x
  | n + 1, x => if rowOf x = 0 then widU x else if decB x = 0 then widN n (decA x) else widN n (decA x) + widU (decB x)

theorem f5_lt (l : List UInt8) (i o : Nat) : f5 o (l.drop (i * 16)) < 33554432 := by rw [f5_fld]; exact fld5_lt l 16 i o

/-- What is known of each row. -/
structure RowIs (x : Nat) : Prop where
  key : plainC x = true
  a : plainC (decA x) = true
  b : plainC (decB x) = true
  wid : widN 3 x ≤ 3 * widU x
  ord : decB x ≠ 0 → clsOf (decB x) ≠ 0 → clsOf (lastN 3 (decA x)) ≤ clsOf (decB x)
  again : cmpOf x = true → rowOf (decA x) ≠ 0 → cmpOf (decA x) = true
  less : cmpOf x = true → widU x ≤ widU (decA x) + widU (decB x)
  first : cmpOf x = true → clsOf (firstN 3 (decA x)) = 0 ∧ isSec (firstN 3 (decA x)) = false

theorem row_is {x : Nat} (hx : rowOf x ≠ 0) : RowIs x := by
  have hc := rows_chk
  obtain ⟨K, e1, e2⟩ := maskK_eq ofKey 16 (fun K => maskK (fun l => bif isC l then ofKey l else 0) 16 2061 decS.data.toList 0 (fun KC =>
    maskK ofRange 12 388 clsS.data.toList 0 (fun C => maskK (fun l => Nat.shiftLeft 1 (f5 5 l)) 15 941 parS.data.toList 0 (fun S =>
      rowsK (fun _ => true) (fun l => trip (f5 0 l) (f5 5 l) (f5 10 l)) 16 2061 decS.data.toList (fun L => treeK 12 L fun D _ =>
        rowsK (fun _ => true) (fun l => trip (f5 0 l) (f5 5 l) (num ((l.drop 10).take 2))) 12 388 clsS.data.toList (fun M => treeK 9 M fun T _ =>
          allRows (rowOk K KC C S D T) 16 2061 decS.data.toList)))))) 2061 decS.data.toList 0
  rw [e1] at hc
  obtain ⟨KC, f1, f2⟩ := maskK_eq (fun l => bif isC l then ofKey l else 0) 16 (fun KC =>
    maskK ofRange 12 388 clsS.data.toList 0 (fun C => maskK (fun l => Nat.shiftLeft 1 (f5 5 l)) 15 941 parS.data.toList 0 (fun S =>
      rowsK (fun _ => true) (fun l => trip (f5 0 l) (f5 5 l) (f5 10 l)) 16 2061 decS.data.toList (fun L => treeK 12 L fun D _ =>
        rowsK (fun _ => true) (fun l => trip (f5 0 l) (f5 5 l) (num ((l.drop 10).take 2))) 12 388 clsS.data.toList (fun M => treeK 9 M fun T _ =>
          allRows (rowOk K KC C S D T) 16 2061 decS.data.toList))))) 2061 decS.data.toList 0
  rw [f1] at hc
  obtain ⟨C, g1, g2⟩ := maskK_eq ofRange 12 (fun C => maskK (fun l => Nat.shiftLeft 1 (f5 5 l)) 15 941 parS.data.toList 0 (fun S =>
      rowsK (fun _ => true) (fun l => trip (f5 0 l) (f5 5 l) (f5 10 l)) 16 2061 decS.data.toList (fun L => treeK 12 L fun D _ =>
        rowsK (fun _ => true) (fun l => trip (f5 0 l) (f5 5 l) (num ((l.drop 10).take 2))) 12 388 clsS.data.toList (fun M => treeK 9 M fun T _ =>
          allRows (rowOk K KC C S D T) 16 2061 decS.data.toList)))) 388 clsS.data.toList 0
  rw [g1] at hc
  obtain ⟨S, s1, s2⟩ := maskK_eq (fun l => Nat.shiftLeft 1 (f5 5 l)) 15 (fun S =>
      rowsK (fun _ => true) (fun l => trip (f5 0 l) (f5 5 l) (f5 10 l)) 16 2061 decS.data.toList (fun L => treeK 12 L fun D _ =>
        rowsK (fun _ => true) (fun l => trip (f5 0 l) (f5 5 l) (num ((l.drop 10).take 2))) 12 388 clsS.data.toList (fun M => treeK 9 M fun T _ =>
          allRows (rowOk K KC C S D T) 16 2061 decS.data.toList))) 941 parS.data.toList 0
  rw [s1] at hc
  obtain ⟨L, l1, l2⟩ := rowsK_eq (fun _ => true) (fun l => trip (f5 0 l) (f5 5 l) (f5 10 l)) 16 2061 decS.data.toList (fun L => treeK 12 L fun D _ =>
        rowsK (fun _ => true) (fun l => trip (f5 0 l) (f5 5 l) (num ((l.drop 10).take 2))) 12 388 clsS.data.toList (fun M => treeK 9 M fun T _ =>
          allRows (rowOk K KC C S D T) 16 2061 decS.data.toList))
  rw [l1] at hc
  obtain ⟨D, L', d1, d2, _⟩ := treeK_eq 12 L (fun D _ =>
        rowsK (fun _ => true) (fun l => trip (f5 0 l) (f5 5 l) (num ((l.drop 10).take 2))) 12 388 clsS.data.toList (fun M => treeK 9 M fun T _ =>
          allRows (rowOk K KC C S D T) 16 2061 decS.data.toList))
  rw [d1] at hc
  obtain ⟨M, m1, m2⟩ := rowsK_eq (fun _ => true) (fun l => trip (f5 0 l) (f5 5 l) (num ((l.drop 10).take 2))) 12 388 clsS.data.toList (fun M => treeK 9 M fun T _ =>
          allRows (rowOk K KC C S D T) 16 2061 decS.data.toList)
  rw [m1] at hc
  obtain ⟨T, M', t1, t2, _⟩ := treeK_eq 9 M (fun T _ => allRows (rowOk K KC C S D T) 16 2061 decS.data.toList)
  rw [t1] at hc
  clear e1 f1 g1 s1 l1 d1 m1 t1
  -- what the sets and trees mean
  have hK : ∀ x, bit K x = true ↔ rowOf x ≠ 0 := fun x => by
    rw [e2 x, row_iff]
    constructor
    · rintro (h | ⟨i, hi, h⟩)
      · rw [bit_zero] at h; exact Bool.noConfusion h
      · exact ⟨i, hi, (bit_one _ _).1 h⟩
    · rintro ⟨i, hi, h⟩
      exact .inr ⟨i, hi, (bit_one _ _).2 h⟩
  have hKC : ∀ x, bit KC x = true → cmpOf x = true := fun x h => by
    rcases (f2 x).1 h with h | ⟨i, hi, h⟩
    · rw [bit_zero] at h; exact Bool.noConfusion h
    · cases hC : isC (decS.data.toList.drop (i * 16)) with
      | false => rw [hC, cond_false, bit_zero] at h; exact Bool.noConfusion h
      | true =>
        rw [hC, cond_true] at h
        have hk : f5 0 (decS.data.toList.drop (i * 16)) = x := (bit_one _ _).1 h
        rw [f5_fld, ← key_fld] at hk
        obtain ⟨_, _, h3⟩ := row_dec (row_of_key hi hk)
        rw [h3]
        exact decide_eq_true ((isC_iff _ _).1 hC)
  have hCz : ∀ x, bit C x = false → clsOf x = 0 := fun x hx => by
    refine cls_zero fun i hi hb => ?_
    have : bit C x = true := (g2 x).2 (.inr ⟨i, hi, (bit_range _ _ _).2 ⟨hb.1, by rw [Nat.sub_eq]; omega⟩⟩)
    rw [hx] at this
    exact Bool.noConfusion this
  have hSz : ∀ x, bit S x = false → isSec x = false := fun x hx => by
    rw [Bool.eq_false_iff]
    intro h
    obtain ⟨i, hi, h⟩ := (isSec_iff x).1 h
    have : bit S x = true := (s2 x).2 (.inr ⟨i, hi, by rw [f5_fld]; exact (bit_one _ _).2 h⟩)
    rw [hx] at this
    exact Bool.noConfusion this
  have hrow := fun i hi => allRows_at _ 16 2061 _ i hc hi
  have hD : ∀ x, rowOf x ≠ 0 → tripB (D.seek x) = decA x ∧ tripC (D.seek x) = decB x := fun x hx => by
    obtain ⟨i, hi, hx1, _⟩ := row_at hx
    have hr := hrow i hi
    unfold rowOk at hr
    simp only [force_eq, hx1] at hr
    cases h0 : Nat.beq (D.seek x) 0 with
    | true => rw [h0] at hr; exact Bool.noConfusion hr
    | false =>
      rcases Tr.seek_has x D with h | ⟨h, hk⟩
      · rw [h] at h0; exact Bool.noConfusion h0
      · obtain ⟨j, hj, _, ht⟩ := (l2 _).1 (d2 _ h)
        have q1 := f5_lt decS.data.toList j 5
        have q2 := f5_lt decS.data.toList j 10
        have k1 := trip_A (a := f5 0 (decS.data.toList.drop (j * 16))) q1 q2
        have k2 := trip_B (a := f5 0 (decS.data.toList.drop (j * 16))) q1 q2
        have k3 := trip_C (a := f5 0 (decS.data.toList.drop (j * 16))) (b := f5 5 (decS.data.toList.drop (j * 16))) q2
        rw [ht] at k1 k2 k3
        have hkx : f5 0 (decS.data.toList.drop (j * 16)) = x := k1.symm.trans hk
        rw [f5_fld, ← key_fld] at hkx
        obtain ⟨p1, p2, _⟩ := row_dec (row_of_key hj hkx)
        rw [k2, k3, p1, p2, f5_fld, f5_fld]
        exact ⟨rfl, rfl⟩
  have hT : ∀ x, tripC (T.seekR x) ≠ 0 → clsOf x = tripC (T.seekR x) := fun x hx => by
    rcases Tr.seekR_has x T with h | ⟨h, h1, h2⟩
    · rw [h] at hx; exact absurd rfl hx
    · obtain ⟨j, hj, _, ht⟩ := (m2 _).1 (t2 _ h)
      have q1 : f5 5 (clsS.data.toList.drop (j * 12)) < 33554432 := by rw [f5_fld]; exact fld5_lt _ 12 j 5
      have q2 : num (((clsS.data.toList.drop (j * 12)).drop 10).take 2) < 33554432 := by
        have := num_le (((clsS.data.toList.drop (j * 12)).drop 10).take 2)
        have h3 : (((clsS.data.toList.drop (j * 12)).drop 10).take 2).length ≤ 2 := List.length_take_le _ _
        have h4 : 16 ^ (((clsS.data.toList.drop (j * 12)).drop 10).take 2).length ≤ 16 ^ 2 := Nat.pow_le_pow_right (by decide) h3
        omega
      have k1 := trip_A (a := f5 0 (clsS.data.toList.drop (j * 12))) q1 q2
      have k2 := trip_B (a := f5 0 (clsS.data.toList.drop (j * 12))) q1 q2
      have k3 := trip_C (a := f5 0 (clsS.data.toList.drop (j * 12))) (b := f5 5 (clsS.data.toList.drop (j * 12))) q2
      rw [ht] at k1 k2 k3
      have r1 : key clsS.data.toList 12 j ≤ x := by rw [key_fld, ← f5_fld, ← k1]; exact h1
      have r2 : x ≤ fld clsS.data.toList 12 j 5 5 := by rw [← f5_fld, ← k2]; exact h2
      rw [k3, cls_at hj r1 r2, List.drop_drop]
      rfl
  have hF : ∀ n x, firstT K D n x = firstN n x := fun n => by
    induction n with
    | zero => intro x; rfl
    | succ n ih =>
      intro x
      unfold firstT firstN
      simp only [force_eq]
      by_cases h : rowOf x = 0
      · rw [if_pos h]
        cases hb : bit K x with
        | false => rfl
        | true => exact absurd h ((hK x).1 hb)
      · rw [if_neg h, (hK x).2 h, cond_true, (hD x h).1]
        exact ih _
  have hL : ∀ n x, lastT K D n x = lastN n x := fun n => by
    induction n with
    | zero => intro x; rfl
    | succ n ih =>
      intro x
      unfold lastT lastN
      simp only [force_eq]
      by_cases h : rowOf x = 0
      · rw [if_pos h]
        cases hb : bit K x with
        | false => rfl
        | true => exact absurd h ((hK x).1 hb)
      · rw [if_neg h, (hK x).2 h, cond_true, (hD x h).1, (hD x h).2]
        by_cases h0 : decB x = 0
        · rw [if_pos h0, h0]; exact ih _
        · rw [if_neg h0, show Nat.beq (decB x) 0 = false from by rw [Bool.eq_false_iff]; exact fun e => h0 (Nat.eq_of_beq_eq_true e), cond_false]
  have hW : ∀ n x, widT K D n x = widN n x := fun n => by
    induction n with
    | zero => intro x; rfl
    | succ n ih =>
      intro x
      unfold widT widN
      simp only [force_eq]
      by_cases h : rowOf x = 0
      · rw [if_pos h]
        cases hb : bit K x with
        | false => rfl
        | true => exact absurd h ((hK x).1 hb)
      · rw [if_neg h, (hK x).2 h, cond_true, (hD x h).1, (hD x h).2]
        by_cases h0 : decB x = 0
        · rw [if_pos h0, h0]; exact ih _
        · rw [if_neg h0, show Nat.beq (decB x) 0 = false from by rw [Bool.eq_false_iff]; exact fun e => h0 (Nat.eq_of_beq_eq_true e), cond_false, ih, show Nat.add (widN n (decA x)) (widU (decB x)) = widN n (decA x) + widU (decB x) from rfl]
  -- the row of x
  obtain ⟨i, hi, hx1, hx2, hx3, hx4⟩ := row_at hx
  have hr := hrow i hi
  clear hrow hc
  unfold rowOk at hr
  simp only [force_eq, hx1, hx2, hx3, hx4, hF, hL, hW] at hr
  cases h0 : Nat.beq (D.seek x) 0 with
  | true => rw [h0] at hr; exact Bool.noConfusion hr
  | false =>
  rw [h0, cond_false] at hr
  cases p1 : plainC x with
  | false => rw [p1] at hr; exact Bool.noConfusion hr
  | true =>
  rw [p1, cond_true] at hr
  cases p2 : plainC (decA x) with
  | false => rw [p2] at hr; exact Bool.noConfusion hr
  | true =>
  rw [p2, cond_true] at hr
  cases p3 : plainC (decB x) with
  | false => rw [p3] at hr; exact Bool.noConfusion hr
  | true =>
  rw [p3, cond_true] at hr
  cases p4 : Nat.ble (widN 3 x) (Nat.mul 3 (widU x)) with
  | false => rw [p4] at hr; exact Bool.noConfusion hr
  | true =>
  rw [p4, cond_true] at hr
  have w4 : widN 3 x ≤ 3 * widU x := Nat.le_of_ble_eq_true p4
  have hord : (bif Nat.beq (decB x) 0 then true else bif bit C (decB x) then (bif bit C (lastN 3 (decA x)) then (bif Nat.beq (tripC (T.seekR (lastN 3 (decA x)))) 0 then false else Nat.ble (tripC (T.seekR (lastN 3 (decA x)))) (tripC (T.seekR (decB x)))) else true) else true) = true ∧
      (bif cmpOf x then (bif bit K (decA x) then bit KC (decA x) else true) && (bif Nat.ble (widU x) (Nat.add (widU (decA x)) (widU (decB x))) then (bif bit C (firstN 3 (decA x)) then false else bif bit S (firstN 3 (decA x)) then false else true) else false) else true) = true := by
    cases h5 : (bif Nat.beq (decB x) 0 then true else bif bit C (decB x) then (bif bit C (lastN 3 (decA x)) then (bif Nat.beq (tripC (T.seekR (lastN 3 (decA x)))) 0 then false else Nat.ble (tripC (T.seekR (lastN 3 (decA x)))) (tripC (T.seekR (decB x)))) else true) else true) with
    | false => rw [h5] at hr; exact Bool.noConfusion hr
    | true => rw [h5, cond_true] at hr; exact ⟨rfl, hr⟩
  obtain ⟨h5, h6⟩ := hord
  clear hr
  refine ⟨p1, p2, p3, w4, fun hb hcb => ?_, fun hcm ha => ?_, fun hcm => ?_, fun hcm => ?_⟩
  · rw [show Nat.beq (decB x) 0 = false from by rw [Bool.eq_false_iff]; exact fun e => hb (Nat.eq_of_beq_eq_true e), cond_false] at h5
    have hbc : bit C (decB x) = true := by
      cases h : bit C (decB x) with
      | true => rfl
      | false => exact absurd (hCz _ h) hcb
    rw [hbc, cond_true] at h5
    cases hl : bit C (lastN 3 (decA x)) with
    | false => rw [hCz _ hl]; exact Nat.zero_le _
    | true =>
      rw [hl, cond_true] at h5
      cases hz : Nat.beq (tripC (T.seekR (lastN 3 (decA x)))) 0 with
      | true => rw [hz] at h5; exact Bool.noConfusion h5
      | false =>
        rw [hz, cond_false] at h5
        have hne : tripC (T.seekR (lastN 3 (decA x))) ≠ 0 := fun e => by rw [e] at hz; exact Bool.noConfusion hz
        have hle := Nat.le_of_ble_eq_true h5
        rw [hT _ hne, hT (decB x) (by omega)]
        exact hle
  · rw [hcm, cond_true, Bool.and_eq_true, (hK _).2 ha, cond_true] at h6
    exact hKC _ h6.1
  · rw [hcm, cond_true, Bool.and_eq_true] at h6
    cases h7 : Nat.ble (widU x) (Nat.add (widU (decA x)) (widU (decB x))) with
    | false => rw [h7] at h6; exact Bool.noConfusion h6.2
    | true => exact Nat.le_of_ble_eq_true h7
  · rw [hcm, cond_true, Bool.and_eq_true] at h6
    cases h7 : Nat.ble (widU x) (Nat.add (widU (decA x)) (widU (decB x))) with
    | false => rw [h7] at h6; exact Bool.noConfusion h6.2
    | true =>
      rw [h7, cond_true] at h6
      cases h8 : bit C (firstN 3 (decA x)) with
      | true => rw [h8] at h6; exact Bool.noConfusion h6.2
      | false =>
        rw [h8, cond_false] at h6
        cases h9 : bit S (firstN 3 (decA x)) with
        | true => rw [h9] at h6; exact Bool.noConfusion h6.2
        | false => exact ⟨hCz _ h8, hSz _ h9⟩


end Go.Proofs.YtipemmjbgegmfaaGreatDoor
