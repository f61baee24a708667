/- SiteChooses: plain facts. -/
import Derived.Test.YtcadlpmopplkeaaDoorF3
namespace Go.Proofs.YtcadlpmopplkeaaDoor
open Go.RowKit Go.Maps
open Go.Shelf
set_option linter.unusedVariables false
set_option linter.unusedSimpArgs false

theorem build3 (a b c d e f : ByteArray) (x y z : Bool) (w : World) : (Instr.buildSlice 35 3 #[(0, .agg #[.string a, .string b, .bool x]), (1, .agg #[.string c, .string d, .bool y]), (2, .agg #[.string e, .string f, .bool z])]).run Tryd.prog w = .ok (.slice (some ⟨w.heap.size, 0, none⟩) 3 3) (w.alloc (.cells #[.string a, .string b, .bool x, .string c, .string d, .bool y, .string e, .string f, .bool z] 44)) := by
  kernel_rfl
theorem wpList_build_run {P : Program} (w : World) {ops : Array Oper} {rest : List Oper} {o : Oper} {a : Act} {Q : Exit → Act → World → Prop} (hgd : o.guard = none) (t : TypeId) (n : Nat) (parts : Array (Nat × Operand))
    (ho : o.op = .buildSlice t n parts) (vs : Array (Nat × Value)) (hs : (parts.map fun (i, x) => (i, a.eval x)) = vs)
    (v' : Value) (w' : World) (hr : (Instr.buildSlice t n vs).run P w = .ok v' w') (h : wpList P ops Q rest (a.put o.dst v') w') : wpList P ops Q (o :: rest) a w := by
  refine wpList_plain hgd fun _ hK => ?_
  unfold Oper.wp execOp
  simp only [ho, hs, hr, Sem.run_bind, Sem.run_pure, Result.andThen_ok]
  exact hK _ _ h
theorem in_row {α : Type} {E : El α} {w : World} {B : Nat} {c : Array Value} {t : TypeId} {fz : Nat × Nat} (l : List α) (h : w.heap[B]? = some (.cells c t fz)) (hc : c.toList = E.cs l) (hl : l.length ≤ 1000000) : In E w (.slice (some ⟨B, 0, none⟩) l.length l.length) l := by
  refine .inr ⟨_, l.length, rfl, Nat.le_refl _, by omega, fun j u hu => ?_⟩
  rw [Addr.add_lit, cell_blk h, Nat.zero_add, ← Array.getElem?_toList, hc]
  exact hu
abbrev acc : ByteArray := ⟨#[97, 99, 99, 101, 112, 116]⟩
abbrev Acc : ByteArray := ⟨#[65, 99, 99, 101, 112, 116]⟩
/-- v0, v1 .. -/
def vS (i : Nat) : ByteArray := ⟨#[118]⟩ ++ itoaS (i : Int)
def cutB (b : ByteArray) : ByteArray := if 65536 < b.size then b.extract 0 65536 else b
def chA (bs : List ByteArray) (i : Nat) : Ch := ⟨vS i, match bs[i]? with | some b => cutB b | none => e0S⟩
def csL (bs : List ByteArray) (k : Nat) : List Ch := (List.range k).map (chA bs)
theorem csL_succ (bs : List ByteArray) (k : Nat) : csL bs (k + 1) = csL bs k ++ [chA bs k] := by
  unfold csL
  rw [List.range_succ, List.map_append]
  rfl
theorem csL_len (bs : List ByteArray) (k : Nat) : (csL bs k).length = k := by simp [csL]
theorem csL_get (bs : List ByteArray) (k i : Nat) (h : i < (csL bs k).length) : (csL bs k)[i] = chA bs i := by simp [csL]
theorem cutB_le (b : ByteArray) : (cutB b).size ≤ 65536 := by
  unfold cutB
  split
  · rw [ByteArray.size_extract]; omega
  · omega
theorem chA_b (bs : List ByteArray) (i : Nat) : (chA bs i).b.size ≤ 65536 := by
  unfold chA
  simp only
  split
  · exact cutB_le _
  · decide
theorem vS_ok : (List.range 8).all (fun i => valB (vS i) && decide ((vS i).size ≤ 10) && (List.range i).all fun j => !((vS j).toList == (vS i).toList)) = true := by kernel_rfl
theorem vS_val {i : Nat} (h : i < 8) : valB (vS i) = true ∧ (vS i).size ≤ 10 := by
  have := List.all_eq_true.1 vS_ok i (List.mem_range.2 h)
  simp only [Bool.and_eq_true, decide_eq_true_eq] at this
  exact this.1
theorem vS_lt {i j : Nat} (h : i < 8) (hj : j < i) : ((vS j).toList == (vS i).toList) = false := by
  have := List.all_eq_true.1 vS_ok i (List.mem_range.2 h)
  simp only [Bool.and_eq_true] at this
  have := List.all_eq_true.1 this.2 j (List.mem_range.2 hj)
  simpa using this
theorem vS_ne {i j : Nat} (hi : i < 8) (hj : j < 8) (h : j ≠ i) : ((vS j).toList == (vS i).toList) = false := by
  by_cases h1 : j < i
  · exact vS_lt hi h1
  · have := vS_lt hj (show i < j by omega)
    rw [beq_eq_false_iff_ne] at this ⊢
    exact Ne.symm this
theorem vS_e {i : Nat} (h : i < 8) : ((vS i).toList == e0S.toList) = false := by
  have : (List.range 8).all (fun i => !((vS i).toList == e0S.toList)) = true := by kernel_rfl
  have := List.all_eq_true.1 this i (List.mem_range.2 h)
  simpa using this
/-- the page may be -/
theorem ch_pg (bs : List ByteArray) (k : Nat) (h1 : 1 ≤ k) (h8 : k ≤ 8) (y : SV) : pgB ⟨aTest, slS, 203, acc, y⟩ (csL bs k) = true := by
  unfold pgB
  have e1 : txB aTest = true := by kernel_rfl
  have e2 : (txB slS && (first0 slS == 47)) = true := by kernel_rfl
  have e3 : staB 203 = true := by kernel_rfl
  simp only
  rw [e1, e2, e3]
  simp only [Bool.true_and]
  unfold chB
  have e4 : noVary acc = false := by kernel_rfl
  have e5 : nmB acc = true := by kernel_rfl
  rw [e4, e5, csL_len]
  simp only [Bool.and_eq_true, decide_eq_true_eq]
  refine ⟨⟨h1, h8⟩, ?_⟩
  rw [if_neg (by simp), Bool.true_and, List.all_eq_true]
  intro i hi
  have hi := List.mem_range.1 hi
  unfold goodAt
  rw [List.getElem?_eq_getElem (by rw [csL_len]; exact hi), csL_get]
  simp only [Bool.and_eq_true]
  refine ⟨⟨(vS_val (by omega)).1, decide_eq_true (chA_b bs i)⟩, ?_⟩
  have ht : (csL bs k).take i = csL bs i := by unfold csL; rw [← List.map_take, List.take_range, Nat.min_eq_left (by omega)]
  have hp : plI (csL bs i) (chA bs i).v = -1 := plI_none fun j hj => by
    rw [csL_get]
    rw [csL_len] at hj
    exact vS_lt (by omega) hj
  rw [ht, hp]
  rfl
theorem ch_no (y : SV) : pgB ⟨aTest, slS, 203, acc, y⟩ [] = false := by kernel_rfl
theorem ch_F (bs : List ByteArray) (k : Nat) (y : SV) : Fk [(⟨aTest, slS, 203, acc, y⟩, csL bs k)] (aTest, slS) = [⟨1, 203, acc, csL bs k⟩] := by
  unfold Fk
  rw [List.filter_cons_of_pos (by simp [tgP])]
  rfl
theorem ch_at (bs : List ByteArray) (k : Nat) : atE [⟨1, 203, acc, csL bs k⟩] 1 = some ⟨1, 203, acc, csL bs k⟩ := rfl
theorem isM_get : isM getS = true := by kernel_rfl
theorem get_is : (getS.toList == [71, 69, 84]) = true := by kernel_rfl
theorem anBd_get (e : Ep) (fs : List Fd) : anBd (some e) getS fs = (chS (de e) fs).b := by
  show (if isM getS = true then anB getS (chS (de e) fs).b else ⟨#[]⟩) = _
  rw [if_pos isM_get]
  unfold anB
  rw [if_pos get_is]
theorem anN_get (e : Ep) : anN (some e) getS = e.n := by
  show (if isM getS = true then e.n else 405) = _
  rw [if_pos isM_get]
theorem chS_hit (e : Ed) (fs : List Fd) (i : Nat) (hi : i < e.l.length) (hp : plI e.l (fvS fs e.v) = (i : Int)) : chS e fs = e.l[i] := by
  have : chI e fs = i := by unfold chI; rw [hp]; simp
  unfold chS
  rw [this, List.getElem?_eq_getElem hi]
theorem chS_miss (e : Ed) (fs : List Fd) (hi : e.l.length - 1 < e.l.length) (hp : plI e.l (fvS fs e.v) = -1) : chS e fs = e.l[e.l.length - 1] := by
  have : chI e fs = e.l.length - 1 := by unfold chI; rw [hp]; simp
  unfold chS
  rw [this, List.getElem?_eq_getElem hi]
theorem ch_hit (bs : List ByteArray) (k i : Nat) (hk : k ≤ 8) (hi : i < k) (fs : List Fd) (hf : (fvS fs acc).toList = (vS i).toList) : (chS (de ⟨1, 203, acc, csL bs k⟩) fs) = chA bs i := by
  have hp : plI (csL bs k) (fvS fs acc) = (i : Int) := plI_some (by rw [csL_len]; exact hi) (by rw [csL_get, hf]; simp [chA]) fun j hj hji => by
    rw [csL_get, hf]
    exact vS_lt (by omega) hji
  rw [chS_hit (de ⟨1, 203, acc, csL bs k⟩) fs i (by show i < (csL bs k).length; rw [csL_len]; exact hi) hp]
  exact csL_get _ _ _ _
theorem ch_miss (bs : List ByteArray) (k : Nat) (hk : k ≤ 8) (h1 : 1 ≤ k) (fs : List Fd) (hf : ∀ i, i < k → ((vS i).toList == (fvS fs acc).toList) = false) : (chS (de ⟨1, 203, acc, csL bs k⟩) fs) = chA bs (k - 1) := by
  have hp : plI (csL bs k) (fvS fs acc) = -1 := plI_none fun j hj => by
    rw [csL_get]
    rw [csL_len] at hj
    exact hf j hj
  rw [chS_miss (de ⟨1, 203, acc, csL bs k⟩) fs (by show (csL bs k).length - 1 < (csL bs k).length; rw [csL_len]; omega) hp]
  refine (csL_get _ _ _ _).trans ?_
  show chA bs ((csL bs k).length - 1) = _
  rw [csL_len]
/-- the fields that are asked with -/
def fs3 (m v : ByteArray) : List Fd := [⟨Acc, m, false⟩, ⟨acc, v, false⟩, ⟨acc, m, false⟩]
theorem fv3 (m v : ByteArray) : fvS (fs3 m v) acc = v := by
  have h : (fs3 m v).findIdx? (fun f => f.n.toList == acc.toList) = some 1 := by kernel_rfl
  unfold fvS
  rw [h]
  rfl
theorem fv1 (v : ByteArray) : fvS [⟨acc, v, false⟩] acc = v := by
  have h : [(⟨acc, v, false⟩ : Fd)].findIdx? (fun f => f.n.toList == acc.toList) = some 0 := by kernel_rfl
  unfold fvS
  rw [h]
  rfl
theorem fv0 : fvS [] acc = e0S := rfl
end Go.Proofs.YtcadlpmopplkeaaDoor
