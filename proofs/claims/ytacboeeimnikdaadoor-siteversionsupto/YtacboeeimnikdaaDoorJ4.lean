/- SiteVersions: what the last loops want. -/
import Derived.Test.YtacboeeimnikdaaDoorJ3
namespace Go.Proofs.YtacboeeimnikdaaDoor
open Go.RowKit Go.Maps
open Go.Shelf
set_option linter.unusedVariables false
set_option linter.unusedSimpArgs false

theorem FN_ver (l ps : List PC) (n : Nat) (u : Tg) : ∀ e ∈ FN (Fk l) ps n u, e.s ≤ (n : Int) + 1 := by
  induction n with
  | zero =>
    intro e he
    have he : e ∈ Fk l u := he
    unfold Fk at he
    obtain ⟨x, _, rfl⟩ := List.mem_map.1 he
    simp [epP]
  | succ n ih =>
    intro e he
    by_cases hl : n < ps.length
    · rw [FN_succ _ _ _ hl] at he
      unfold Fm.put at he
      by_cases e' : ptT ps[n] = u
      · rw [if_pos e'] at he
        rcases List.mem_append.1 he with he | he
        · rw [e'] at he; have := ih e he; omega
        · rw [List.mem_singleton.1 he]; simp only [ptE]; omega
      · rw [if_neg e'] at he; have := ih e he; omega
    · have : FN (Fk l) ps (n + 1) = FN (Fk l) ps n := by
        simp only [FN]
        rw [List.getElem?_eq_none (by omega)]
      rw [this] at he
      have := ih e he
      omega
theorem field26 (a p v : ByteArray) (n : Int) (s : Option Addr) (l c : Nat) (w : World) : (Instr.field 26 (.agg #[.string a, .string p, .int .i64 n, .string v, .slice s l c]) 1).run Tryd.prog w = .ok (.string p) w := by kernel_rfl
/-- what was told of a request at a version can be read -/
theorem Vs.told' {w wr : World} {lo g : Nat} {ps l : List PC} {k : Nat} {ya : SV} {tb : Option Addr} {tl tc : Nat} {A : List Aq} {T : List Rr} (h : Vs w wr lo g ps l k ya (tb, tl, tc) A T) (hT : TD ps l A T) (n i : Nat) (hn : n < T.length) (hi : i < A.length) :
    ∃ (B off Bz zoff zl zc : Nat) (r : Rp), tb = some ⟨B, off, none⟩ ∧ tl = T.length ∧ i < zl ∧ RpIs r (FN (Fk l) ps n) ((n : Int) + 1) A[i] ∧
      ∀ V, Below wr.heap.size wr V → V.cell? ⟨B, off + n, none⟩ = some (.slice (some ⟨Bz, zoff, none⟩) zl zc) ∧ V.cell? ⟨Bz, zoff + i * 3, none⟩ = some (.int .i64 r.n) ∧ V.cell? ⟨Bz, zoff + i * 3 + 1, none⟩ = some (sv r.y) ∧ V.cell? ⟨Bz, zoff + i * 3 + 2, none⟩ = some (.string r.b) ∧ In EFd V (sv r.y) r.l := by
  obtain ⟨q1, q2⟩ := hT n hn
  have hr := h.rows T[n] (List.getElem_mem _)
  obtain ⟨B, off, cap, e, hB, hc⟩ := h.told.1.isIn.get okRR n hn
  simp only [sv] at e
  injection e with e1 e2 e3
  obtain ⟨t, hTn⟩ : ∃ t, T[n] = t := ⟨_, rfl⟩
  rw [hTn] at q1 q2 hr hc
  obtain ⟨⟨zb, zl, zc⟩, rs⟩ := t
  simp only at q1 q2 hr hc
  have hi' : i < rs.length := by rw [q1]; exact hi
  obtain ⟨Bz, zoff, zcap, ez, hBz, hcz⟩ := hr.1.isIn.get okRs i hi'
  simp only [sv] at ez
  injection ez with z1 z2 z3
  have hIs : RpIs rs[i] (FN (Fk l) ps n) ((n : Int) + 1) A[i] := q2 i hi' hi
  have hf := hr.2 rs[i] (List.getElem_mem _)
  have c := hc 0 (sv (zb, zl, zc)) rfl
  have c0 := hcz 0 (.int .i64 rs[i].n) rfl
  have c1 := hcz 1 (sv rs[i].y) rfl
  have c2 := hcz 2 (.string rs[i].b) rfl
  simp only [ERR, Nat.mul_one, Nat.add_zero, sv, z1] at c
  simp only [ERs, Nat.add_zero] at c0 c1 c2
  refine ⟨B, off, Bz, zoff, zl, zc, rs[i], e1, e2, by omega, hIs, fun V hV => ⟨(hV.cell (p := ⟨B, off + n, none⟩) hB).trans c, (hV.cell (p := ⟨Bz, zoff + i * 3, none⟩) hBz).trans c0, (hV.cell (p := ⟨Bz, zoff + i * 3 + 1, none⟩) hBz).trans c1, (hV.cell (p := ⟨Bz, zoff + i * 3 + 2, none⟩) hBz).trans c2, hf.isIn.below hV⟩⟩
end Go.Proofs.YtacboeeimnikdaaDoor
