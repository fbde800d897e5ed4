/- Write. -/
import Derived.Test.YtphifbhgocjhcaaFa
import Derived.StillTailTactics
namespace Go.Proofs.Ytphifbhgocjhcaa
set_option linter.unusedSimpArgs false
set_option linter.unusedVariables false
open Go.RowKit Go.Maps

section
variable {w : World} {p s m : Nat} {B : List UInt8} {C : Ca}

theorem Kp.refl (may : Nat → Prop) (w : World) : Kp may w w := (Kp.stays may).refl w
theorem Kp.drew {may : Nat → Prop} {w w' : World} (h : Kp may w w') : Kp may w w'.drew := ⟨h.os, h.tape, h.output, h.size, h.block⟩
theorem Kp.undrew {may : Nat → Prop} {w w' : World} (h : Kp may w.drew w') : Kp may w w' := ⟨h.os, h.tape, h.output, h.size, h.block⟩
theorem Dk.drew (h : Dk w p s m B C) : Dk w.drew p s m B C := h.of rfl rfl rfl

/-- A sector, loaded from wherever it lies. -/
theorem run_load_sec {ad : Addr} {l : List UInt8} (hl : l.length = 256) (hc : ∀ j u, l[j]? = some u → w.cell? (ad.add j) = some (B8 u)) : (Instr.loadAt 63 (.pointer (some ad))).run Try.prog w = .ok (sec l) w := by
  have hld := run_loadCells_list (P := Try.prog) w ad (cs8 l) (fun j v hv => by
    simp only [cs8, List.getElem?_map, Option.map_eq_some_iff] at hv
    obtain ⟨b, hb, rfl⟩ := hv
    exact hc j b hb)
  rw [cs8_length, hl] at hld
  simp only [Instr.loadAt, Instr.sureAddr, Sem.run_bind, Sem.run_pure, Result.andThen_ok, loadVar, Try.isAgg63, if_true, Try.sizeOf63, hld]
  rfl
theorem exec_load_sec {o : Oper} {a : Act} {x : Operand} (ho : o.op = .load 63 x) {ad : Addr} {l : List UInt8} (hx : a.eval x = .pointer (some ad)) (hl : l.length = 256) (hc : ∀ j u, l[j]? = some u → w.cell? (ad.add j) = some (B8 u)) :
    (execOp a.eval o).run Try.prog w = .ok (.value (sec l)) w := by
  unfold execOp
  simp only [ho, hx, Sem.run_bind, run_load_sec hl hc, Result.andThen_ok, Sem.run_pure]
theorem exec_arr {o : Oper} {a : Act} {x : Operand} (ho : o.op = .sliceToArrayPointer 63 x) {A : Option Addr} {n c : Nat} (hx : a.eval x = .slice A n c) (hn : 256 ≤ n) :
    (execOp a.eval o).run Try.prog w = .ok (.value (.pointer A)) w := by
  unfold execOp
  simp only [ho, hx, Instr.arrayAt, Sem.run_bind, run_underlying Try.underlying63, Result.andThen_ok, if_neg (show ¬ n < 256 by omega), Sem.run_pure]
theorem still_val {P : Program} {ops : Array Oper} {Q : Act → Prop} {a : Act} {o : Oper} {rest : List Oper} (hg : o.guard = none) {v : Value} (hrun : (execOp a.eval o).run P w = .ok (.value v) w)
    (h : wpStill P ops w Q rest (a.put o.dst v)) : wpStill P ops w Q (o :: rest) a := by
  unfold wpStill
  rw [if_pos (by simp [Region.wanted, hg])]
  unfold Oper.still
  rw [hrun]
  exact ⟨rfl, h⟩
/-- A store into a map, by its run. -/
theorem wpList_upd {P : Program} {w2 : World} {ops : Array Oper} {rest : List Oper} {o : Oper} {a : Act} {Q : Exit → Act → World → Prop} (hgd : o.guard = none) (t : TypeId) (m x v : Operand)
    (ho : o.op = Op.mapUpdate t m x v) {mv kv vv : Value} (hm : a.eval m = mv) (hx : a.eval x = kv) (hv : a.eval v = vv) (hrun : (Instr.mapUpdate t mv kv vv).run P w = .ok () w2)
    (h : wpList P ops Q rest (a.put o.dst undef) w2) : wpList P ops Q (o :: rest) a w := by
  refine wpList_plain hgd fun K hK => ?_
  unfold Oper.wp execOp
  simp only [ho, hm, hx, hv, Sem.run_bind, hrun, Result.andThen_ok, Sem.run_pure]
  exact hK _ _ h
set_option maxRecDepth 100000 in
theorem write_ok (h : Dk w p s m B C) (i : Nat) (hi : i < C.length) {top c : Nat} {A : Option Addr} {l : List UInt8} (hr : Rd w top A 256 c l) :
    Calls Try.prog 12 #[ptr p, .int .i64 (i : Int), .slice A 256 c] w fun e w' => e = .returned (.int .i64 0) ∧ Dk w' p s m B (C.set i (some l)) ∧ Kp (· = m) w w' := by
  have HM := Lib.hid (made_any h)
  have HH := Lib.hid (has_any h (i : Int))
  have HD := Lib.hid h
  obtain ⟨cap, hc, hc2, c0, c1⟩ := h.c0
  have hl := hr.len
  obtain ⟨ad, rfl, hb, hcell⟩ := hr.2.2 (by omega)
  have hld : (Instr.loadAt 63 (.pointer (some ad))).run Try.prog w.drew = .ok (sec l) w.drew := run_load_sec hl hcell
  obtain ⟨w2, hst, hD2, hK2⟩ := h.drew.store hi hl
  have h0 := h.h0
  have h1 := h.h1
  have hcap := hr.cap
  clear h hr
  go_enter Try.func12, Try.ntmps12
  go_wp2_with (first | (go_at_call 31; refine HM.out.mono ?_; rintro e w' ⟨rfl, rfl⟩) | (go_at_call 32; refine HH.out.mono ?_; rintro e w' ⟨rfl, rfl⟩))
  refine wp_region_still_tail 8 (by kernel_rfl) (by kernel_rfl) ?_
  simp only [List.take_succ_cons, List.take_zero, List.drop_succ_cons, List.drop_zero]
  still_step
  still_step
  still_step
  still_step
  still_step
  still_step
  refine still_val rfl (exec_arr rfl rfl (Nat.le_refl _)) ?_
  refine still_val rfl (exec_load_sec rfl rfl hl hcell) ?_
  refine wpStill_nil ?_
  refine wpList_upd rfl 59 _ _ _ rfl rfl rfl rfl hst ?_
  go_wp2
  go_ret
  exact ⟨rfl, hD2, hK2.undrew⟩
end
end Go.Proofs.Ytphifbhgocjhcaa
