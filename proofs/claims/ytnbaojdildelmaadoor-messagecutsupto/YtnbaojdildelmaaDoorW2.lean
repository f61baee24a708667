/- MessageLengths: plain facts. -/
import Derived.Test.YtnbaojdildelmaaDoorL0
namespace Go.Proofs.YtnbaojdildelmaaDoor
open Go.RowKit
set_option linter.unusedVariables false
set_option linter.unusedSimpArgs false
def dgC (x : UInt8) : Bool := decide (48 ≤ x.toNat) && decide (x.toNat ≤ 57)
/-- 1 to 10 digits -/
def dgB (s : ByteArray) : Bool := (decide (s ≠ ⟨#[]⟩) && decide (s.size ≤ 10)) && s.data.toList.all dgC
theorem parse_digits (M : Nat) : ∀ (l : List UInt8) (acc u : Nat), Lib.parseUintM M acc l = .ok u → l.all dgC = true
  | [], _, _, _ => rfl
  | c :: r, acc, u, h => by
    unfold Lib.parseUintM at h
    split at h
    · rename_i h1
      split at h
      · cases h
      · split at h
        · cases h
        · have := parse_digits M r _ u h
          rw [List.all_cons, this, dgC, decide_eq_true h1.1, decide_eq_true h1.2]
          rfl
    · cases h
def l2 (t : ByteArray) : List Fd := [⟨statS, ⟨#[50, 48, 48]⟩, false⟩, ⟨clS, t, false⟩]
theorem l2_vs (t : ByteArray) : vsL (l2 t) clS = [t] := rfl
theorem l2_bad {t : ByteArray} (h : dgB t = false) : nwE (l2 t) ≠ 0 := by
  intro e
  unfold nwE at e
  have h1 : hdE (l2 t) = 0 := by
    apply Classical.byContradiction
    intro hn
    rw [if_pos hn] at e
    exact hn e
  rw [if_neg (by simp [h1]), l2_vs] at e
  unfold rlE at e
  dsimp only at e
  cases hn : nbO t with
  | none => rw [hn] at e; simp at e
  | some u =>
    unfold nbO at hn
    cases hp : Lib.parseUintB 64 t.data.toList with
    | ok v =>
      rw [hp] at hn
      dsimp only at hn
      split at hn
      · rename_i h2
        unfold Lib.parseUintB at hp
        split at hp
        · cases hp
        · rename_i h3
          have h4 := parse_digits _ _ _ _ hp
          have h5 : t ≠ ⟨#[]⟩ := fun e => h3 (by rw [e])
          unfold dgB at h
          rw [h4, decide_eq_true h5, decide_eq_true h2.1] at h
          cases h
      · cases hn
    | «syntax» => rw [hp] at hn; cases hn
    | range => rw [hp] at hn; cases hn
theorem l2_names (t : ByteArray) : ∀ f ∈ l2 t, f.n.size ≤ 140737488355328 := fun f hf => by
  simp [l2] at hf
  rcases hf with rfl | rfl
  · exact (by decide : statS.size ≤ 140737488355328)
  · exact (by decide : clS.size ≤ 140737488355328)
/-- zeros ahead of a number -/
def zrS (z u : Nat) : ByteArray := bt (List.replicate z 48 ++ Lib.decDigits u)
theorem zr_size (z u : Nat) : (zrS z u).size = z + (Lib.decDigits u).length := by rw [zrS, bt_size, List.length_append, List.length_replicate]
theorem zr_succ (z u : Nat) : (⟨#[48]⟩ : ByteArray) ++ zrS z u = zrS (z + 1) u := by
  apply ba_eq
  rw [ByteArray.data_append, Array.toList_append, zrS, zrS, bt_list, bt_list, List.replicate_succ]
  rfl
theorem zr_parse (u : Nat) (hu : u ≤ 18446744073709551615) : ∀ z, Lib.parseUintM 18446744073709551615 0 (List.replicate z 48 ++ Lib.decDigits u) = .ok u
  | 0 => by rw [List.replicate_zero, List.nil_append]; exact parse_dec u hu
  | z + 1 => by
    rw [List.replicate_succ, List.cons_append]
    conv => lhs; unfold Lib.parseUintM
    rw [if_pos (by decide), if_neg (by decide), if_neg (by decide)]
    exact zr_parse u hu z
theorem zr_ne (z u : Nat) : zrS z u ≠ ⟨#[]⟩ := fun e => by
  have h1 := congrArg ByteArray.size e
  rw [zr_size] at h1
  have h2 := dec_pos u
  have h6 : (⟨#[]⟩ : ByteArray).size = 0 := rfl
  omega
theorem zr_nb {z u : Nat} (h : u ≤ 2147483647) (hz : (zrS z u).size ≤ 10) : nbO (zrS z u) = some u := by
  unfold nbO
  have h2 := dec_pos u
  rw [zrS, bt_list, Lib.parseUintB, if_neg (fun e => by have := congrArg List.length e; simp at this; rw [this.2] at h2; simp at h2), show 2 ^ 64 - 1 = 18446744073709551615 from rfl, zr_parse u (by omega)]
  dsimp only
  rw [zrS] at hz
  rw [if_pos ⟨hz, h⟩]
theorem zr_val {z u : Nat} (hz : (zrS z u).size ≤ 10) : valB (zrS z u) = true := by
  refine val_vis (by omega) fun x hx => ?_
  rw [zrS, bt_list] at hx
  rcases List.mem_append.1 hx with hx | hx
  · rw [(List.mem_replicate.1 hx).2]; decide
  · have := dec_bytes u x hx
    omega
theorem c200 : stB ⟨#[50, 48, 48]⟩ = true ∧ valB ⟨#[50, 48, 48]⟩ = true ∧ numL (⟨#[50, 48, 48]⟩ : ByteArray).data.toList = 200 := by decide +kernel
theorem c199 : stB ⟨#[49, 57, 57]⟩ = true ∧ valB ⟨#[49, 57, 57]⟩ = true ∧ numL (⟨#[49, 57, 57]⟩ : ByteArray).data.toList = 199 := by decide +kernel
/-- the lists that New is asked of, with a right length -/
structure LnR (t : ByteArray) (u : Nat) : Prop where
  ne : t ≠ ⟨#[]⟩
  nb : nbO t = some u
  vl : valB t = true
  sz : t.size ≤ 10
theorem LnR.rp {t : ByteArray} {u : Nat} (h : LnR t u) (st : ByteArray) : vsL (rpL st t) clS = [t] := by rw [rp_vs, if_neg h.ne]
theorem LnR.ok {t : ByteArray} {u : Nat} (h : LnR t u) : nwE (rpL ⟨#[50, 48, 48]⟩ t) = 0 := by
  obtain ⟨h1, h2⟩ := rp_ok (ln := t) c200.1 c200.2.1 h.vl
  rw [c200.2.2] at h2
  unfold nwE
  have h3 : hdE (rpL ⟨#[50, 48, 48]⟩ t) = 0 := by unfold hdE; rw [if_neg (by rw [h1]; simp), h2, if_neg (by decide)]
  rw [h3, if_neg (by simp), h.rp]
  unfold rlE
  dsimp only
  rw [h.nb]
  rfl
theorem LnR.nx {t : ByteArray} {u : Nat} (h : LnR t u) (y : SV) : (NwX ⟨#[71, 69, 84]⟩ (rpL ⟨#[50, 48, 48]⟩ t) y).rq = false ∧ (NwX ⟨#[71, 69, 84]⟩ (rpL ⟨#[50, 48, 48]⟩ t) y).st = 0 ∧ (NwX ⟨#[71, 69, 84]⟩ (rpL ⟨#[50, 48, 48]⟩ t) y).fx = true ∧ (NwX ⟨#[71, 69, 84]⟩ (rpL ⟨#[50, 48, 48]⟩ t) y).ln = (u : Int) ∧ (NwX ⟨#[71, 69, 84]⟩ (rpL ⟨#[50, 48, 48]⟩ t) y).bs = (none, 0, 0) := by
  obtain ⟨h1, h2, h3, h4, h5, h6⟩ := NwX_keeps ⟨#[71, 69, 84]⟩ (rpL ⟨#[50, 48, 48]⟩ t) y
  have hs := (rp_ok (ln := t) c200.1 c200.2.1 h.vl).2
  rw [c200.2.2] at hs
  have e : NwX ⟨#[71, 69, 84]⟩ (rpL ⟨#[50, 48, 48]⟩ t) y = { { mg0 false with n := stOf (rpL ⟨#[50, 48, 48]⟩ t), ry := y } with fx := true, ln := (u : Int) } := by
    unfold NwX
    rw [if_neg (by rw [hs]; decide +kernel), h.rp]
    unfold rlX
    dsimp only
    rw [h.nb]
  refine ⟨h1, h6, ?_, ?_, h3⟩
  · rw [e]
  · rw [e]
theorem LnR.low {t : ByteArray} {u : Nat} (h : LnR t u) : nwE (rpL ⟨#[49, 57, 57]⟩ t) = 131 := by
  obtain ⟨h1, h2⟩ := rp_ok (ln := t) c199.1 c199.2.1 h.vl
  rw [c199.2.2] at h2
  unfold nwE
  have h3 : hdE (rpL ⟨#[49, 57, 57]⟩ t) = 131 := by unfold hdE; rw [if_neg (by rw [h1]; simp), h2, if_pos (by decide)]
  rw [h3, if_pos (by decide)]
def l3 (t : ByteArray) : List Fd := [⟨statS, ⟨#[50, 48, 48]⟩, false⟩, ⟨clS, t, false⟩, ⟨clS, t, false⟩]
theorem cl_right {t : ByteArray} (h : valB t = true) : wrongB ⟨clS, t, false⟩ = false ∧ nofB ⟨clS, t, false⟩ = false := by
  constructor
  · unfold wrongB
    simp only [h]
    decide
  · kernel_rfl
theorem LnR.two {t : ByteArray} {u : Nat} (h : LnR t u) : nwE (l3 t) = 140 := by
  obtain ⟨h1, h2⟩ := res_ok (st := ⟨#[50, 48, 48]⟩) (nv := false) (r := [⟨clS, t, false⟩, ⟨clS, t, false⟩]) c200.1 c200.2.1 (by simp) (fun f hf => by
    simp at hf
    subst hf
    exact cl_right h.vl)
  rw [c200.2.2] at h2
  unfold nwE
  have h3 : hdE (l3 t) = 0 := by unfold hdE l3; rw [if_neg (by rw [h1]; simp), h2, if_neg (by decide)]
  rw [h3, if_neg (by simp)]
  rfl
theorem nw_great : nwE (rpL ⟨#[50, 48, 48]⟩ ⟨#[50, 49, 52, 55, 52, 56, 51, 54, 52, 56]⟩) = 140 := by decide +kernel
/-- New of any list of a response, with no more than whether it is taken -/
def NgPost (l : List Fd) (W : World) (e : Ending) (W' : World) : Prop := Below W.heap.size W W' ∧ ∃ pv ev : Value, e = .returned (.tuple #[pv, ev]) ∧ (nwE l ≠ 0 → pv = .pointer none ∧ ev = .int .i64 (nwE l)) ∧ ((∃ g, pv = .pointer (some ⟨g, 0, none⟩)) ∧ ev = .int .i64 0 ∨ pv = .pointer none ∧ ev = .int .i64 (nwE l))
theorem new_any {W : World} (meth : ByteArray) (s : SV) (l : List Fd) (hI : In EFd W (sv s) l) (hlen : l.length * 40 ≤ 140737488355328) (hz : ∀ f ∈ l, f.n.size ≤ 140737488355328) (hzv : ∀ v ∈ vsL l clS, v.size ≤ 140737488355328) (he : Er W) :
    Calls Tryd.prog 10 #[.bool false, .string meth, sv s] W fun e W' => NgPost l W e W' := (new_res meth s l W hI hlen hz hzv he).mono fun e w' ⟨k1, k2, k3⟩ => by
  refine ⟨k1, ?_⟩
  by_cases h : nwE l = 0
  · obtain ⟨g, y, e, _⟩ := k2 h
    exact ⟨_, _, e, fun hn => absurd h hn, .inl ⟨⟨g, rfl⟩, rfl⟩⟩
  · exact ⟨_, _, k3 h, fun _ => ⟨rfl, rfl⟩, .inr ⟨rfl, rfl⟩⟩
end Go.Proofs.YtnbaojdildelmaaDoor
