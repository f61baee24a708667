/- Tables, replies. -/
import Derived.Test.YtnbaojdildelmaaDoorN8
import Derived.Deep.Cut
import Derived.Deep.CutRange
namespace Go.Proofs.YtnbaojdildelmaaDoor
open Go.RowKit
set_option linter.unusedVariables false
set_option linter.unusedSimpArgs false
def Tab (w : World) : Prop := Lib.TabIs Tryd.prog w "internal/strconv.uint64pow10" .u64 Lib.pow10Tab
theorem gTab : Tryd.prog.globalNamed "internal/strconv.uint64pow10" = some 0 := by kernel_rfl
theorem Tab.below {w w' : World} (h : Tab w) (hb : Below w.heap.size w w') : Tab w' := by
  unfold Tab Lib.TabIs World.var? at h ⊢
  rw [gTab, Option.bind_some] at h ⊢
  cases hg : w.heap[0]? with
  | none => rw [hg] at h; cases h
  | some o =>
    rw [(hb.block 0 (heap_lt hg)), hg]
    rw [hg] at h
    exact h
theorem grow_below (w : World) (os : Array Obj) : Below w.heap.size w (Go.Sort.grow w os) :=
  ⟨rfl, rfl, rfl, by simp [Go.Sort.grow], fun k hk => by simp [Go.Sort.grow, Array.getElem?_append, hk]⟩
theorem itoa_any (u : Nat) (h1 : u ≤ 9223372036854775807) (w : World) (ht : Tab w) : Calls Tryd.prog 9 #[.int .i64 (u : Int)] w fun e w' => e = .returned (.string (decS u)) ∧ Below w.heap.size w w' := by
  refine (Tryd.strconv_Itoa (u : Int) (by omega) (by omega) w ht).mono ?_
  rintro e w' ⟨rfl, k, os, rfl⟩
  exact ⟨by rw [Lib.itoa_nonneg]; rfl, (below_drewN (Below.refl _ w) k).trans (show Below w.heap.size (w.drewN k) _ from grow_below (w.drewN k) os)⟩
set_option maxHeartbeats 4000000 in
set_option maxRecDepth 100000 in
theorem format_any (u : Nat) (h1 : u ≤ 9223372036854775807) (w : World) (ht : Tab w) : Calls Tryd.prog 13 #[.int .i64 (u : Int), .int .i64 10] w fun e w' => e = .returned (.string (decS u)) ∧ Below w.heap.size w w' := by
  have hf : Hid (Calls Tryd.prog 25 #[.int .i64 (u : Int), .int .i64 10] w fun e w' => e = .returned (.string (decS u)) ∧ Below w.heap.size w w') := by
    refine (Tryd.internal_strconv_FormatInt_10 (u : Int) (by omega) (by omega) w ht).mono ?_
    rintro e w' ⟨rfl, k, os, rfl⟩
    exact ⟨by rw [Lib.itoa_nonneg]; rfl, (below_drewN (Below.refl _ w) k).trans (show Below w.heap.size (w.drewN k) _ from grow_below (w.drewN k) os)⟩
  clear h1 ht
  go_enter Tryd.func13, Tryd.ntmps13
  go_wp2_with fail
  go_at_call 25
  refine Calls.mono hf.out ?_
  rintro e w2 ⟨rfl, bX⟩
  go_wp2_with fail
  go_ret
  exact ⟨by first | rfl | simp, bX⟩
/-- a declared length that is right -/
def LnOk (ln : ByteArray) : Prop := ln = ⟨#[]⟩ ∨ ∃ u : Nat, u ≤ 2147483647 ∧ ln = decS u
theorem ln_val {ln : ByteArray} (h : LnOk ln) : valB ln = true ∧ ln.size ≤ 4096 := by
  rcases h with rfl | ⟨u, hu, rfl⟩
  · decide +kernel
  · refine ⟨dec_val (by omega), ?_⟩
    have := dec_len 9 u (by omega)
    rw [decS, bt_size]
    omega
theorem rp_len (st ln : ByteArray) : (rpL st ln).length * 40 ≤ 140737488355328 := by unfold rpL; split <;> simp
theorem rp_len1 (st ln : ByteArray) : (([] : List Fd) ++ (rpL st ln).drop 1).length * 40 ≤ 140737488355328 := by unfold rpL; split <;> simp
theorem rp_names (st ln : ByteArray) : ∀ f ∈ rpL st ln, f.n.size ≤ 140737488355328 := fun f hf => by
  unfold rpL at hf
  rcases List.mem_cons.1 hf with rfl | hf
  · exact (by decide : statS.size ≤ 140737488355328)
  · split at hf
    · cases hf
    · simp at hf; subst hf; exact (by decide : clS.size ≤ 140737488355328)
theorem rp_vals {st ln : ByteArray} (h1 : valB st = true) (h : LnOk ln) : ∀ v ∈ vsL (rpL st ln) clS, v.size ≤ 140737488355328 := fun v hv => by
  rw [rp_vs] at hv
  split at hv
  · cases hv
  · simp at hv; subst hv; have := (ln_val h).2; omega
theorem rp_st {st ln : ByteArray} {n : Int} (hC : stB st = true ∧ valB st = true ∧ numL st.data.toList = n ∧ (200 : Int) ≤ n) (h : LnOk ln) : stOf (rpL st ln) = n := by rw [(rp_ok hC.1 hC.2.1 (ln_val h).1).2, hC.2.2.1]
theorem rp_nw {st ln : ByteArray} {n : Int} (hC : stB st = true ∧ valB st = true ∧ numL st.data.toList = n ∧ (200 : Int) ≤ n) (h : LnOk ln) : nwE (rpL st ln) = 0 := by
  have h1 := (rp_ok hC.1 hC.2.1 (ln_val h).1).1
  have h2 := rp_st hC h
  unfold nwE
  have h3 : hdE (rpL st ln) = 0 := by unfold hdE; rw [if_neg (by rw [h1]; simp), h2, if_neg (by omega)]
  rw [h3, if_neg (by simp), rp_vs]
  rcases h with rfl | ⟨u, hu, rfl⟩
  · rfl
  · rw [if_neg (fun e => by have h5 := dec_pos u; have := congrArg ByteArray.size e; rw [decS, bt_size] at this; have h6 : (⟨#[]⟩ : ByteArray).size = 0 := rfl; omega)]
    unfold rlE
    dsimp only
    rw [nbO_dec hu]
    rfl
theorem nwx_bd {meth : ByteArray} {l : List Fd} {y : SV} (h : bdB false (stOf l) meth = true) : (NwX meth l y).rq = false ∧ (NwX meth l y).st = 0 ∧ (NwX meth l y).fx = true ∧ (NwX meth l y).ln = 0 ∧ (NwX meth l y).bs = (none, 0, 0) := by
  obtain ⟨h1, h2, h3, h4, h5, h6⟩ := NwX_keeps meth l y
  refine ⟨h1, h6, ?_, ?_, h3⟩
  · unfold NwX; rw [if_pos h]
  · unfold NwX; rw [if_pos h]
theorem bd_head (n : Int) : bdB false n ⟨#[72, 69, 65, 68]⟩ = true := by unfold bdB; simp
theorem bd_204 (meth : ByteArray) : bdB false 204 meth = true := by unfold bdB; simp
theorem bd_304 (meth : ByteArray) : bdB false 304 meth = true := by unfold bdB; simp
theorem c204 : stB ⟨#[50, 48, 52]⟩ = true ∧ valB ⟨#[50, 48, 52]⟩ = true ∧ numL (⟨#[50, 48, 52]⟩ : ByteArray).data.toList = 204 ∧ (200 : Int) ≤ 204 := by decide +kernel
theorem c304 : stB ⟨#[51, 48, 52]⟩ = true ∧ valB ⟨#[51, 48, 52]⟩ = true ∧ numL (⟨#[51, 48, 52]⟩ : ByteArray).data.toList = 304 ∧ (200 : Int) ≤ 304 := by decide +kernel
theorem nw404 : nwE (rpL ⟨#[52, 48, 52]⟩ ⟨#[49]⟩) = 0 := by decide +kernel
end Go.Proofs.YtnbaojdildelmaaDoor
