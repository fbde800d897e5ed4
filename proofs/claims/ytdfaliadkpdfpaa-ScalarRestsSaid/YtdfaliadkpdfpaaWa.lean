/- Numbers of words added, and taken away. -/
import Derived.Test.YtdfaliadkpdfpaaWk
namespace Go.Proofs.Ytdfaliadkpdfpaa
set_option linter.unusedSimpArgs false
set_option linter.unusedVariables false
open Go.RowKit

theorem cell_set {w : World} {g i k j : Nat} {v u : Value} (h : w.cell? ⟨k, j, none⟩ = some u) (hij : j ≠ i) : (w.drew.setCell ⟨g, i, none⟩ v).cell? ⟨k, j, none⟩ = some u := by
  rw [World.cell?_setCell_other _ _ _ v (by simp; try omega)]
  exact h
section
variable {P : Program} {ops : Array Oper} {Q : Exit → Act → World → Prop} {R : World → World → Prop}
/-- Two reads side by side, and what is ready behind the second. -/
theorem reg_reads3 (hR : Stays R) (i j m : Nat) {o p q : Oper} {u v x : Value} {fuel : Nat} {listed : Array Bool} {a : Act} {w : World}
    (hr : Region.ready .any ops listed = [i, j]) (hri : Region.ready .any ops (listed.setIfInBounds i true) = [j]) (hrj : Region.ready .any ops ((listed.setIfInBounds j true).setIfInBounds m true) = [i])
    (ho : ops[i]? = some o) (hp : ops[j]? = some p) (hq : ops[m]? = some q)
    (wo : Region.wanted o (yielded ops a.tmps) = true) (wp : Region.wanted p (yielded ops a.tmps) = true)
    (wo' : Region.wanted o (yielded ops ((a.put p.dst v).put q.dst x).tmps) = true) (wp' : Region.wanted p (yielded ops (a.put o.dst u).tmps) = true)
    (eo : (execOp a.eval o).run P w = .ok (.value u) w) (ep : (execOp a.eval p).run P w = .ok (.value v) w)
    (eo' : (execOp ((a.put p.dst v).put q.dst x).eval o).run P w = .ok (.value u) w) (ep' : (execOp (a.put o.dst u).eval p).run P w = .ok (.value v) w)
    (hs : Region.noSelect ops = true)
    (hf : Region.free .any ops (listed.setIfInBounds j true) m = true) (hm : (Region.ready .any ops (listed.setIfInBounds j true)).contains m = true)
    (hQ : ∀ c a w, Q (.panic c) (a.put q.dst x) w → Q (.panic c) a w) (wq : Region.wanted q (yielded ops (a.put p.dst v).tmps) = true)
    (eq : ∀ W, R w W → (execOp (a.put p.dst v).eval q).run P W = .ok (.value x) W)
    (hf' : Region.free .any ops ((listed.setIfInBounds i true).setIfInBounds j true) m = true) (hm' : (Region.ready .any ops ((listed.setIfInBounds i true).setIfInBounds j true)).contains m = true)
    (wq' : Region.wanted q (yielded ops ((a.put o.dst u).put p.dst v).tmps) = true)
    (eq' : ∀ W, R w W → (execOp ((a.put o.dst u).put p.dst v).eval q).run P W = .ok (.value x) W)
    (hl : ((listed.setIfInBounds j true).setIfInBounds m true).setIfInBounds i true = ((listed.setIfInBounds i true).setIfInBounds j true).setIfInBounds m true) (ha : ((a.put p.dst v).put q.dst x).put o.dst u = ((a.put o.dst u).put p.dst v).put q.dst x)
    (h : wpAnyH P .any ops Q (R w) fuel (((listed.setIfInBounds i true).setIfInBounds j true).setIfInBounds m true) (((a.put o.dst u).put p.dst v).put q.dst x) w) : wpAnyH P .any ops Q (R w) (fuel + 1 + 1 + 1) listed a w := by
  have one : ∀ (o' : Oper) (v' : Value) (a' : Act) (K : Act → World → Prop), (execOp a'.eval o').run P w = .ok (.value v') w → K (a'.put o'.dst v') w → o'.wp P a' w K Q := by
    intro o' v' a' K e k
    unfold Oper.wp
    rw [e]
    exact k
  refine wpAnyH_all hr (by simp) fun y hy => ?_
  have hy2 : y = i ∨ y = j := by simpa using hy
  rcases hy2 with rfl | rfl
  · unfold wpOp
    simp only [ho]
    rw [if_pos wo]
    refine .inl (one _ _ _ _ eo ⟨hR.refl w, ?_⟩)
    refine wpAnyH_all hri (by simp) fun z hz => ?_
    obtain rfl : z = j := by simpa using hz
    unfold wpOp
    simp only [hp]
    rw [if_pos wp']
    exact .inl (one _ _ _ _ ep' ⟨hR.refl w, reg_take hR m hq hs hf' hm' hQ wq' eq' h⟩)
  · unfold wpOp
    simp only [hp]
    rw [if_pos wp]
    refine .inl (one _ _ _ _ ep ⟨hR.refl w, ?_⟩)
    refine reg_take hR m hq hs hf hm hQ wq eq ?_
    refine wpAnyH_all hrj (by simp) fun z hz => ?_
    obtain rfl : z = i := by simpa using hz
    unfold wpOp
    simp only [ho]
    rw [if_pos wo']
    refine .inl (one _ _ _ _ eo' ⟨hR.refl w, ?_⟩)
    rw [hl, ha]
    exact h
end
theorem subU (x y : UInt64) : IntKind.u64.wrap ((x.toNat : Int) - (y.toNat : Int)) = ((x - y).toNat : Int) := by
  have := x.toNat_lt
  have := y.toNat_lt
  rw [UInt64.toNat_sub, wrapU]
  omega
theorem exec_sub64 {o : Oper} {a : Act} {w : World} (x y : Operand) (ho : o.op = .binOp .sub 31 x y 31) {m n s : UInt64} (h : m - n = s) (hx : a.eval x = .int .u64 (m.toNat : Int)) (hy : a.eval y = .int .u64 (n.toNat : Int)) :
    (execOp a.eval o).run Try.prog w = .ok (.value (.int .u64 (s.toNat : Int))) w := by
  subst h
  unfold execOp
  simp only [ho, hx, hy]
  simp [go_sem, Try.underlying31, subU]
theorem exec_add64c {o : Oper} {a : Act} {w : World} (x y z : Operand) (ho : o.op = .call { callee := .value (.func 21), args := #[x, y, z], argTypes := #[31, 31, 31] }) {m n c s r : UInt64}
    (hx : a.eval x = .int .u64 (m.toNat : Int)) (hy : a.eval y = .int .u64 (n.toNat : Int)) (hz : a.eval z = .int .u64 (c.toNat : Int)) (hs : (m.toNat + n.toNat + c.toNat) % 18446744073709551616 = s.toNat) (hr : (m.toNat + n.toNat + c.toNat) / 18446744073709551616 = r.toNat) (hc : c.toNat ≤ 1) :
    (execOp a.eval o).run Try.prog w = .ok (.value (.tuple #[.int .u64 (s.toNat : Int), .int .u64 (r.toNat : Int)])) w := by
  have h := add64_any hs hr hc w
  unfold execOp
  simp only [ho, resolve, List.map_toArray, List.map_cons, List.map_nil, hx, hy, hz]
  simp [go_sem, invoke, h]
theorem exec_add640 {o : Oper} {a : Act} {w : World} (x y : Operand) (ho : o.op = .call { callee := .value (.func 21), args := #[x, y, .const (.int .u64 0)], argTypes := #[31, 31, 31] }) {m n s r : UInt64}
    (hx : a.eval x = .int .u64 (m.toNat : Int)) (hy : a.eval y = .int .u64 (n.toNat : Int)) (hs : (m.toNat + n.toNat + 0) % 18446744073709551616 = s.toNat) (hr : (m.toNat + n.toNat + 0) / 18446744073709551616 = r.toNat) :
    (execOp a.eval o).run Try.prog w = .ok (.value (.tuple #[.int .u64 (s.toNat : Int), .int .u64 (r.toNat : Int)])) w := by
  have h := add64_0 hs hr w
  unfold execOp
  simp only [ho, resolve, List.map_toArray, List.map_cons, List.map_nil, hx, hy]
  simp [go_sem, invoke, h]
theorem exec_sub64c {o : Oper} {a : Act} {w : World} (x y z : Operand) (ho : o.op = .call { callee := .value (.func 23), args := #[x, y, z], argTypes := #[31, 31, 31] }) {m n c s r : UInt64}
    (hx : a.eval x = .int .u64 (m.toNat : Int)) (hy : a.eval y = .int .u64 (n.toNat : Int)) (hz : a.eval z = .int .u64 (c.toNat : Int)) (hs : (m.toNat + 18446744073709551616 - n.toNat - c.toNat) % 18446744073709551616 = s.toNat) (hr : (if m.toNat < n.toNat + c.toNat then 1 else 0) = r.toNat) (hc : c.toNat ≤ 1) :
    (execOp a.eval o).run Try.prog w = .ok (.value (.tuple #[.int .u64 (s.toNat : Int), .int .u64 (r.toNat : Int)])) w := by
  have h := sub64_any hs hr hc w
  unfold execOp
  simp only [ho, resolve, List.map_toArray, List.map_cons, List.map_nil, hx, hy, hz]
  simp [go_sem, invoke, h]
theorem exec_sub640 {o : Oper} {a : Act} {w : World} (x y : Operand) (ho : o.op = .call { callee := .value (.func 23), args := #[x, y, .const (.int .u64 0)], argTypes := #[31, 31, 31] }) {m n s r : UInt64}
    (hx : a.eval x = .int .u64 (m.toNat : Int)) (hy : a.eval y = .int .u64 (n.toNat : Int)) (hs : (m.toNat + 18446744073709551616 - n.toNat - 0) % 18446744073709551616 = s.toNat) (hr : (if m.toNat < n.toNat + 0 then 1 else 0) = r.toNat) :
    (execOp a.eval o).run Try.prog w = .ok (.value (.tuple #[.int .u64 (s.toNat : Int), .int .u64 (r.toNat : Int)])) w := by
  have h := sub64_0 hs hr w
  unfold execOp
  simp only [ho, resolve, List.map_toArray, List.map_cons, List.map_nil, hx, hy]
  simp [go_sem, invoke, h]

set_option maxHeartbeats 1600000 in
set_option maxRecDepth 8192 in
theorem take_any (a b : Nat) (g k : Nat) (w : World) (hab : b ≤ a) (hA : Bk w g (cs64 (wd a))) (hK : Bk w k (cs64 (wd b))) :
    Calls Try.prog 19 #[.pointer (some ⟨g, 0, none⟩), .pointer (some ⟨k, 0, none⟩)] w fun e w' => (∃ v, e = .returned v) ∧ Bk w' g (cs64 (wd (a - b))) ∧ Kp (· = g) w w' := by
  obtain ⟨s3, o3, s2, o2, s1, o1, e3, f3, h2, e2, f2, h1, e1, f1, h0, eW⟩ := sub_words a b hab
  have HW := Lib.hid eW
  clear eW
  have hP0 := (Kp.stays (· = g)).refl w
  have ca3 := hA.drew.cell (k := 3) rfl
  have ca2 := hA.drew.cell (k := 2) rfl
  have ca1 := hA.drew.cell (k := 1) rfl
  have ca0 := hA.drew.cell (k := 0) rfl
  have cb3 := hK.drew.cell (k := 3) rfl
  have cb2 := hK.drew.cell (k := 2) rfl
  have cb1 := hK.drew.cell (k := 1) rfl
  have cb0 := hK.drew.cell (k := 0) rfl
  have hB0 : Bk w g [.int .u64 _, .int .u64 _, .int .u64 _, .int .u64 _] := hA
  simp only [B64] at ca3 ca2 ca1 ca0 cb3 cb2 cb1 cb0
  clear hA hK
  generalize UInt64.ofNat (a / 18446744073709551616 / 18446744073709551616 / 18446744073709551616) = a0 at *
  generalize UInt64.ofNat (b / 18446744073709551616 / 18446744073709551616 / 18446744073709551616) = b0 at *
  generalize UInt64.ofNat (a / 18446744073709551616 / 18446744073709551616) = a1 at *
  generalize UInt64.ofNat (b / 18446744073709551616 / 18446744073709551616) = b1 at *
  generalize UInt64.ofNat (a / 18446744073709551616) = a2 at *
  generalize UInt64.ofNat (b / 18446744073709551616) = b2 at *
  generalize UInt64.ofNat a = a3 at *
  generalize UInt64.ofNat b = b3 at *
  go_enter Try.func19, Try.ntmps19
  go_wp2_with fail
  have hR := Kp.stays (· = g)
  refine reg_start (Kp (· = g)) follows_mixed ?_
-- region 1 of f19: 17 operations, draws: true
  refine reg_take (v := ?_) hR 0 rfl (by kernel_rfl) (by kernel_rfl) (by kernel_rfl) (fun _ _ _ h => h) (by rfl) ?_ ?_
  rotate_left
  · intro W hW; go_simp; try with_reducible rfl
  try simp only [Act.put, List.getElem_toArray, List.getElem_cons_succ, List.getElem_cons_zero, List.setIfInBounds_toArray, List.set_cons_zero, List.set_cons_succ]
  refine reg_take (v := ?_) hR 1 rfl (by kernel_rfl) (by kernel_rfl) (by kernel_rfl) (fun _ _ _ h => h) (by rfl) ?_ ?_
  rotate_left
  · intro W hW; go_simp; try with_reducible rfl
  try simp only [Act.put, List.getElem_toArray, List.getElem_cons_succ, List.getElem_cons_zero, List.setIfInBounds_toArray, List.set_cons_zero, List.set_cons_succ]
  refine reg_take (v := ?_) hR 2 rfl (by kernel_rfl) (by kernel_rfl) (by kernel_rfl) (fun _ _ _ h => h) (by rfl) ?_ ?_
  rotate_left
  · intro W hW; go_simp; try with_reducible rfl
  try simp only [Act.put, List.getElem_toArray, List.getElem_cons_succ, List.getElem_cons_zero, List.setIfInBounds_toArray, List.set_cons_zero, List.set_cons_succ]
  refine reg_take (v := .pointer (some ⟨g, 3, none⟩)) hR 3 rfl (by kernel_rfl) (by kernel_rfl) (by kernel_rfl) (fun _ _ _ h => h) (by rfl) ?_ ?_
  · intro W hW; exact exec_at64 40 _ _ rfl Try.underlying40 rfl rfl (by omega)
  try simp only [Act.put, List.getElem_toArray, List.getElem_cons_succ, List.getElem_cons_zero, List.setIfInBounds_toArray, List.set_cons_zero, List.set_cons_succ]
  refine reg_take (v := ?_) hR 5 rfl (by kernel_rfl) (by kernel_rfl) (by kernel_rfl) (fun _ _ _ h => h) (by rfl) ?_ ?_
  rotate_left
  · intro W hW; go_simp; try with_reducible rfl
  try simp only [Act.put, List.getElem_toArray, List.getElem_cons_succ, List.getElem_cons_zero, List.setIfInBounds_toArray, List.set_cons_zero, List.set_cons_succ]
  refine reg_take (v := ?_) hR 6 rfl (by kernel_rfl) (by kernel_rfl) (by kernel_rfl) (fun _ _ _ h => h) (by rfl) ?_ ?_
  rotate_left
  · intro W hW; go_simp; try with_reducible rfl
  try simp only [Act.put, List.getElem_toArray, List.getElem_cons_succ, List.getElem_cons_zero, List.setIfInBounds_toArray, List.set_cons_zero, List.set_cons_succ]
  refine reg_take (v := .pointer (some ⟨k, 3, none⟩)) hR 7 rfl (by kernel_rfl) (by kernel_rfl) (by kernel_rfl) (fun _ _ _ h => h) (by rfl) ?_ ?_
  · intro W hW; exact exec_at64 40 _ _ rfl Try.underlying40 rfl rfl (by omega)
  try simp only [Act.put, List.getElem_toArray, List.getElem_cons_succ, List.getElem_cons_zero, List.setIfInBounds_toArray, List.set_cons_zero, List.set_cons_succ]
  refine reg_take (v := ?_) hR 13 rfl (by kernel_rfl) (by kernel_rfl) (by kernel_rfl) (fun _ _ _ h => h) (by rfl) ?_ ?_
  rotate_left
  · intro W hW; go_simp; try with_reducible rfl
  try simp only [Act.put, List.getElem_toArray, List.getElem_cons_succ, List.getElem_cons_zero, List.setIfInBounds_toArray, List.set_cons_zero, List.set_cons_succ]
  refine reg_reads hR 4 8 (u := .int .u64 (a3.toNat : Int)) (v := .int .u64 (b3.toNat : Int)) (by kernel_rfl) (by kernel_rfl) (by kernel_rfl) rfl rfl (by rfl) (by rfl) (by rfl) (by rfl) ?_ ?_ ?_ ?_ (by kernel_rfl) (by rfl) ?_
  · exact exec_load_cell 31 _ rfl Try.isAgg31 rfl ca3
  · exact exec_load_cell 31 _ rfl Try.isAgg31 rfl cb3
  · exact exec_load_cell 31 _ rfl Try.isAgg31 rfl ca3
  · exact exec_load_cell 31 _ rfl Try.isAgg31 rfl cb3
  try simp only [Act.put, List.getElem_toArray, List.getElem_cons_succ, List.getElem_cons_zero, List.setIfInBounds_toArray, List.set_cons_zero, List.set_cons_succ]
  -- STEP 9: Op.call { callee := Callee.value (Operand.func 23), args := #[t10, t14, Operand.const (Value.int IntKind.u64 0
  refine reg_step hR 9 (by kernel_rfl) rfl fun K hK => ?_
  try simp only [Act.put, List.getElem_toArray, List.getElem_cons_succ, List.getElem_cons_zero, List.setIfInBounds_toArray, List.set_cons_zero, List.set_cons_succ]
  rw [if_pos (by rfl)]
  refine wp_val _ (exec_sub640 _ _ rfl rfl rfl e3 f3) ?_
  refine hK.out _ _ ?_ ?_
  · exact (Kp.stays _).refl _
  clear hK K
  try simp only [Act.put, List.getElem_toArray, List.getElem_cons_succ, List.getElem_cons_zero, List.setIfInBounds_toArray, List.set_cons_zero, List.set_cons_succ]
  refine reg_take (v := ?_) hR 10 rfl (by kernel_rfl) (by kernel_rfl) (by kernel_rfl) (fun _ _ _ h => h) (by rfl) ?_ ?_
  rotate_left
  · intro W hW; go_simp; try with_reducible rfl
  try simp only [Act.put, List.getElem_toArray, List.getElem_cons_succ, List.getElem_cons_zero, List.setIfInBounds_toArray, List.set_cons_zero, List.set_cons_succ]
  refine reg_take (v := ?_) hR 11 rfl (by kernel_rfl) (by kernel_rfl) (by kernel_rfl) (fun _ _ _ h => h) (by rfl) ?_ ?_
  rotate_left
  · intro W hW; go_simp; try with_reducible rfl
  try simp only [Act.put, List.getElem_toArray, List.getElem_cons_succ, List.getElem_cons_zero, List.setIfInBounds_toArray, List.set_cons_zero, List.set_cons_succ]
  refine reg_take (v := ?_) hR 12 rfl (by kernel_rfl) (by kernel_rfl) (by kernel_rfl) (fun _ _ _ h => h) (by rfl) ?_ ?_
  rotate_left
  · intro W hW; go_simp; try with_reducible rfl
  try simp only [Act.put, List.getElem_toArray, List.getElem_cons_succ, List.getElem_cons_zero, List.setIfInBounds_toArray, List.set_cons_zero, List.set_cons_succ]
  refine reg_take (v := .pointer (some ⟨g, 3, none⟩)) hR 14 rfl (by kernel_rfl) (by kernel_rfl) (by kernel_rfl) (fun _ _ _ h => h) (by rfl) ?_ ?_
  · intro W hW; exact exec_at64 40 _ _ rfl Try.underlying40 rfl rfl (by omega)
  try simp only [Act.put, List.getElem_toArray, List.getElem_cons_succ, List.getElem_cons_zero, List.setIfInBounds_toArray, List.set_cons_zero, List.set_cons_succ]
  -- STEP 15: Op.store 31 (t19) (t16)
  refine reg_step hR 15 (by kernel_rfl) rfl fun K hK => ?_
  try simp only [Act.put, List.getElem_toArray, List.getElem_cons_succ, List.getElem_cons_zero, List.setIfInBounds_toArray, List.set_cons_zero, List.set_cons_succ]
  rw [if_pos (by rfl)]
  refine wp_store_cell _ _ rfl (g := g) (k := 3) rfl rfl hB0 (by simp) ?_
  refine hK.out _ _ ?_ ?_
  · exact Kp.of_cellG _ _
  clear hK K
  try simp only [Act.put, List.getElem_toArray, List.getElem_cons_succ, List.getElem_cons_zero, List.setIfInBounds_toArray, List.set_cons_zero, List.set_cons_succ]
  refine reg_take (v := ?_) hR 16 rfl (by kernel_rfl) (by kernel_rfl) (by kernel_rfl) (fun _ _ _ h => h) (by rfl) ?_ ?_
  rotate_left
  · intro W hW; go_simp; try with_reducible rfl
  try simp only [Act.put, List.getElem_toArray, List.getElem_cons_succ, List.getElem_cons_zero, List.setIfInBounds_toArray, List.set_cons_zero, List.set_cons_succ]
  refine reg_done (by kernel_rfl) ?_ _

  have hP1 := (Kp.stays _).trans hP0 ((Kp.stays _).trans (kp_drew _) (Kp.of_cellG (g := g) 3 (.int .u64 (s3.toNat : Int))))
  have hB1 := hB0.drew.setCell 3 (.int .u64 (s3.toNat : Int))
  have ca0 := cell_set (g := g) (i := 3) (v := .int .u64 (s3.toNat : Int)) ca0 (by omega)
  have cb0 := cell_set (g := g) (i := 3) (v := .int .u64 (s3.toNat : Int)) cb0 (by omega)
  have ca1 := cell_set (g := g) (i := 3) (v := .int .u64 (s3.toNat : Int)) ca1 (by omega)
  have cb1 := cell_set (g := g) (i := 3) (v := .int .u64 (s3.toNat : Int)) cb1 (by omega)
  have ca2 := cell_set (g := g) (i := 3) (v := .int .u64 (s3.toNat : Int)) ca2 (by omega)
  have cb2 := cell_set (g := g) (i := 3) (v := .int .u64 (s3.toNat : Int)) cb2 (by omega)
  go_wp2_with fail
  have hR := Kp.stays (· = g)
  refine reg_start (Kp (· = g)) follows_mixed ?_
-- region 2 of f19: 18 operations, draws: true
  refine reg_take (v := ?_) hR 0 rfl (by kernel_rfl) (by kernel_rfl) (by kernel_rfl) (fun _ _ _ h => h) (by rfl) ?_ ?_
  rotate_left
  · intro W hW; go_simp; try with_reducible rfl
  try simp only [Act.put, List.getElem_toArray, List.getElem_cons_succ, List.getElem_cons_zero, List.setIfInBounds_toArray, List.set_cons_zero, List.set_cons_succ]
  refine reg_take (v := ?_) hR 1 rfl (by kernel_rfl) (by kernel_rfl) (by kernel_rfl) (fun _ _ _ h => h) (by rfl) ?_ ?_
  rotate_left
  · intro W hW; go_simp; try with_reducible rfl
  try simp only [Act.put, List.getElem_toArray, List.getElem_cons_succ, List.getElem_cons_zero, List.setIfInBounds_toArray, List.set_cons_zero, List.set_cons_succ]
  refine reg_take (v := ?_) hR 2 rfl (by kernel_rfl) (by kernel_rfl) (by kernel_rfl) (fun _ _ _ h => h) (by rfl) ?_ ?_
  rotate_left
  · intro W hW; go_simp; try with_reducible rfl
  try simp only [Act.put, List.getElem_toArray, List.getElem_cons_succ, List.getElem_cons_zero, List.setIfInBounds_toArray, List.set_cons_zero, List.set_cons_succ]
  refine reg_take (v := .pointer (some ⟨g, 2, none⟩)) hR 3 rfl (by kernel_rfl) (by kernel_rfl) (by kernel_rfl) (fun _ _ _ h => h) (by rfl) ?_ ?_
  · intro W hW; exact exec_at64 40 _ _ rfl Try.underlying40 rfl rfl (by omega)
  try simp only [Act.put, List.getElem_toArray, List.getElem_cons_succ, List.getElem_cons_zero, List.setIfInBounds_toArray, List.set_cons_zero, List.set_cons_succ]
  refine reg_take (v := ?_) hR 5 rfl (by kernel_rfl) (by kernel_rfl) (by kernel_rfl) (fun _ _ _ h => h) (by rfl) ?_ ?_
  rotate_left
  · intro W hW; go_simp; try with_reducible rfl
  try simp only [Act.put, List.getElem_toArray, List.getElem_cons_succ, List.getElem_cons_zero, List.setIfInBounds_toArray, List.set_cons_zero, List.set_cons_succ]
  refine reg_take (v := ?_) hR 6 rfl (by kernel_rfl) (by kernel_rfl) (by kernel_rfl) (fun _ _ _ h => h) (by rfl) ?_ ?_
  rotate_left
  · intro W hW; go_simp; try with_reducible rfl
  try simp only [Act.put, List.getElem_toArray, List.getElem_cons_succ, List.getElem_cons_zero, List.setIfInBounds_toArray, List.set_cons_zero, List.set_cons_succ]
  refine reg_take (v := .pointer (some ⟨k, 2, none⟩)) hR 7 rfl (by kernel_rfl) (by kernel_rfl) (by kernel_rfl) (fun _ _ _ h => h) (by rfl) ?_ ?_
  · intro W hW; exact exec_at64 40 _ _ rfl Try.underlying40 rfl rfl (by omega)
  try simp only [Act.put, List.getElem_toArray, List.getElem_cons_succ, List.getElem_cons_zero, List.setIfInBounds_toArray, List.set_cons_zero, List.set_cons_succ]
  refine reg_take (v := ?_) hR 9 rfl (by kernel_rfl) (by kernel_rfl) (by kernel_rfl) (fun _ _ _ h => h) (by rfl) ?_ ?_
  rotate_left
  · intro W hW; go_simp; try with_reducible rfl
  try simp only [Act.put, List.getElem_toArray, List.getElem_cons_succ, List.getElem_cons_zero, List.setIfInBounds_toArray, List.set_cons_zero, List.set_cons_succ]
  refine reg_take (v := ?_) hR 14 rfl (by kernel_rfl) (by kernel_rfl) (by kernel_rfl) (fun _ _ _ h => h) (by rfl) ?_ ?_
  rotate_left
  · intro W hW; go_simp; try with_reducible rfl
  try simp only [Act.put, List.getElem_toArray, List.getElem_cons_succ, List.getElem_cons_zero, List.setIfInBounds_toArray, List.set_cons_zero, List.set_cons_succ]
  refine reg_reads hR 4 8 (u := .int .u64 (a2.toNat : Int)) (v := .int .u64 (b2.toNat : Int)) (by kernel_rfl) (by kernel_rfl) (by kernel_rfl) rfl rfl (by rfl) (by rfl) (by rfl) (by rfl) ?_ ?_ ?_ ?_ (by kernel_rfl) (by rfl) ?_
  · exact exec_load_cell 31 _ rfl Try.isAgg31 rfl ca2
  · exact exec_load_cell 31 _ rfl Try.isAgg31 rfl cb2
  · exact exec_load_cell 31 _ rfl Try.isAgg31 rfl ca2
  · exact exec_load_cell 31 _ rfl Try.isAgg31 rfl cb2
  try simp only [Act.put, List.getElem_toArray, List.getElem_cons_succ, List.getElem_cons_zero, List.setIfInBounds_toArray, List.set_cons_zero, List.set_cons_succ]
  -- STEP 10: Op.call { callee := Callee.value (Operand.func 23), args := #[t25, t29, t30], argTypes := #[31, 31, 31] }
  refine reg_step hR 10 (by kernel_rfl) rfl fun K hK => ?_
  try simp only [Act.put, List.getElem_toArray, List.getElem_cons_succ, List.getElem_cons_zero, List.setIfInBounds_toArray, List.set_cons_zero, List.set_cons_succ]
  rw [if_pos (by rfl)]
  refine wp_val _ (exec_sub64c _ _ _ rfl rfl rfl rfl e2 f2 h2) ?_
  refine hK.out _ _ ?_ ?_
  · exact (Kp.stays _).refl _
  clear hK K
  try simp only [Act.put, List.getElem_toArray, List.getElem_cons_succ, List.getElem_cons_zero, List.setIfInBounds_toArray, List.set_cons_zero, List.set_cons_succ]
  refine reg_take (v := ?_) hR 11 rfl (by kernel_rfl) (by kernel_rfl) (by kernel_rfl) (fun _ _ _ h => h) (by rfl) ?_ ?_
  rotate_left
  · intro W hW; go_simp; try with_reducible rfl
  try simp only [Act.put, List.getElem_toArray, List.getElem_cons_succ, List.getElem_cons_zero, List.setIfInBounds_toArray, List.set_cons_zero, List.set_cons_succ]
  refine reg_take (v := ?_) hR 12 rfl (by kernel_rfl) (by kernel_rfl) (by kernel_rfl) (fun _ _ _ h => h) (by rfl) ?_ ?_
  rotate_left
  · intro W hW; go_simp; try with_reducible rfl
  try simp only [Act.put, List.getElem_toArray, List.getElem_cons_succ, List.getElem_cons_zero, List.setIfInBounds_toArray, List.set_cons_zero, List.set_cons_succ]
  refine reg_take (v := ?_) hR 13 rfl (by kernel_rfl) (by kernel_rfl) (by kernel_rfl) (fun _ _ _ h => h) (by rfl) ?_ ?_
  rotate_left
  · intro W hW; go_simp; try with_reducible rfl
  try simp only [Act.put, List.getElem_toArray, List.getElem_cons_succ, List.getElem_cons_zero, List.setIfInBounds_toArray, List.set_cons_zero, List.set_cons_succ]
  refine reg_take (v := .pointer (some ⟨g, 2, none⟩)) hR 15 rfl (by kernel_rfl) (by kernel_rfl) (by kernel_rfl) (fun _ _ _ h => h) (by rfl) ?_ ?_
  · intro W hW; exact exec_at64 40 _ _ rfl Try.underlying40 rfl rfl (by omega)
  try simp only [Act.put, List.getElem_toArray, List.getElem_cons_succ, List.getElem_cons_zero, List.setIfInBounds_toArray, List.set_cons_zero, List.set_cons_succ]
  -- STEP 16: Op.store 31 (t35) (t32)
  refine reg_step hR 16 (by kernel_rfl) rfl fun K hK => ?_
  try simp only [Act.put, List.getElem_toArray, List.getElem_cons_succ, List.getElem_cons_zero, List.setIfInBounds_toArray, List.set_cons_zero, List.set_cons_succ]
  rw [if_pos (by rfl)]
  refine wp_store_cell _ _ rfl (g := g) (k := 2) rfl rfl hB1 (by simp) ?_
  refine hK.out _ _ ?_ ?_
  · exact Kp.of_cellG _ _
  clear hK K
  try simp only [Act.put, List.getElem_toArray, List.getElem_cons_succ, List.getElem_cons_zero, List.setIfInBounds_toArray, List.set_cons_zero, List.set_cons_succ]
  refine reg_take (v := ?_) hR 17 rfl (by kernel_rfl) (by kernel_rfl) (by kernel_rfl) (fun _ _ _ h => h) (by rfl) ?_ ?_
  rotate_left
  · intro W hW; go_simp; try with_reducible rfl
  try simp only [Act.put, List.getElem_toArray, List.getElem_cons_succ, List.getElem_cons_zero, List.setIfInBounds_toArray, List.set_cons_zero, List.set_cons_succ]
  refine reg_done (by kernel_rfl) ?_ _

  have hP2 := (Kp.stays _).trans hP1 ((Kp.stays _).trans (kp_drew _) (Kp.of_cellG (g := g) 2 (.int .u64 (s2.toNat : Int))))
  have hB2 := hB1.drew.setCell 2 (.int .u64 (s2.toNat : Int))
  have ca0 := cell_set (g := g) (i := 2) (v := .int .u64 (s2.toNat : Int)) ca0 (by omega)
  have cb0 := cell_set (g := g) (i := 2) (v := .int .u64 (s2.toNat : Int)) cb0 (by omega)
  have ca1 := cell_set (g := g) (i := 2) (v := .int .u64 (s2.toNat : Int)) ca1 (by omega)
  have cb1 := cell_set (g := g) (i := 2) (v := .int .u64 (s2.toNat : Int)) cb1 (by omega)
  go_wp2_with fail
  have hR := Kp.stays (· = g)
  refine reg_start (Kp (· = g)) follows_mixed ?_
-- region 3 of f19: 18 operations, draws: true
  refine reg_take (v := ?_) hR 0 rfl (by kernel_rfl) (by kernel_rfl) (by kernel_rfl) (fun _ _ _ h => h) (by rfl) ?_ ?_
  rotate_left
  · intro W hW; go_simp; try with_reducible rfl
  try simp only [Act.put, List.getElem_toArray, List.getElem_cons_succ, List.getElem_cons_zero, List.setIfInBounds_toArray, List.set_cons_zero, List.set_cons_succ]
  refine reg_take (v := ?_) hR 1 rfl (by kernel_rfl) (by kernel_rfl) (by kernel_rfl) (fun _ _ _ h => h) (by rfl) ?_ ?_
  rotate_left
  · intro W hW; go_simp; try with_reducible rfl
  try simp only [Act.put, List.getElem_toArray, List.getElem_cons_succ, List.getElem_cons_zero, List.setIfInBounds_toArray, List.set_cons_zero, List.set_cons_succ]
  refine reg_take (v := ?_) hR 2 rfl (by kernel_rfl) (by kernel_rfl) (by kernel_rfl) (fun _ _ _ h => h) (by rfl) ?_ ?_
  rotate_left
  · intro W hW; go_simp; try with_reducible rfl
  try simp only [Act.put, List.getElem_toArray, List.getElem_cons_succ, List.getElem_cons_zero, List.setIfInBounds_toArray, List.set_cons_zero, List.set_cons_succ]
  refine reg_take (v := .pointer (some ⟨g, 1, none⟩)) hR 3 rfl (by kernel_rfl) (by kernel_rfl) (by kernel_rfl) (fun _ _ _ h => h) (by rfl) ?_ ?_
  · intro W hW; exact exec_at64 40 _ _ rfl Try.underlying40 rfl rfl (by omega)
  try simp only [Act.put, List.getElem_toArray, List.getElem_cons_succ, List.getElem_cons_zero, List.setIfInBounds_toArray, List.set_cons_zero, List.set_cons_succ]
  refine reg_take (v := ?_) hR 5 rfl (by kernel_rfl) (by kernel_rfl) (by kernel_rfl) (fun _ _ _ h => h) (by rfl) ?_ ?_
  rotate_left
  · intro W hW; go_simp; try with_reducible rfl
  try simp only [Act.put, List.getElem_toArray, List.getElem_cons_succ, List.getElem_cons_zero, List.setIfInBounds_toArray, List.set_cons_zero, List.set_cons_succ]
  refine reg_take (v := ?_) hR 6 rfl (by kernel_rfl) (by kernel_rfl) (by kernel_rfl) (fun _ _ _ h => h) (by rfl) ?_ ?_
  rotate_left
  · intro W hW; go_simp; try with_reducible rfl
  try simp only [Act.put, List.getElem_toArray, List.getElem_cons_succ, List.getElem_cons_zero, List.setIfInBounds_toArray, List.set_cons_zero, List.set_cons_succ]
  refine reg_take (v := .pointer (some ⟨k, 1, none⟩)) hR 7 rfl (by kernel_rfl) (by kernel_rfl) (by kernel_rfl) (fun _ _ _ h => h) (by rfl) ?_ ?_
  · intro W hW; exact exec_at64 40 _ _ rfl Try.underlying40 rfl rfl (by omega)
  try simp only [Act.put, List.getElem_toArray, List.getElem_cons_succ, List.getElem_cons_zero, List.setIfInBounds_toArray, List.set_cons_zero, List.set_cons_succ]
  refine reg_take (v := ?_) hR 9 rfl (by kernel_rfl) (by kernel_rfl) (by kernel_rfl) (fun _ _ _ h => h) (by rfl) ?_ ?_
  rotate_left
  · intro W hW; go_simp; try with_reducible rfl
  try simp only [Act.put, List.getElem_toArray, List.getElem_cons_succ, List.getElem_cons_zero, List.setIfInBounds_toArray, List.set_cons_zero, List.set_cons_succ]
  refine reg_take (v := ?_) hR 14 rfl (by kernel_rfl) (by kernel_rfl) (by kernel_rfl) (fun _ _ _ h => h) (by rfl) ?_ ?_
  rotate_left
  · intro W hW; go_simp; try with_reducible rfl
  try simp only [Act.put, List.getElem_toArray, List.getElem_cons_succ, List.getElem_cons_zero, List.setIfInBounds_toArray, List.set_cons_zero, List.set_cons_succ]
  refine reg_reads hR 4 8 (u := .int .u64 (a1.toNat : Int)) (v := .int .u64 (b1.toNat : Int)) (by kernel_rfl) (by kernel_rfl) (by kernel_rfl) rfl rfl (by rfl) (by rfl) (by rfl) (by rfl) ?_ ?_ ?_ ?_ (by kernel_rfl) (by rfl) ?_
  · exact exec_load_cell 31 _ rfl Try.isAgg31 rfl ca1
  · exact exec_load_cell 31 _ rfl Try.isAgg31 rfl cb1
  · exact exec_load_cell 31 _ rfl Try.isAgg31 rfl ca1
  · exact exec_load_cell 31 _ rfl Try.isAgg31 rfl cb1
  try simp only [Act.put, List.getElem_toArray, List.getElem_cons_succ, List.getElem_cons_zero, List.setIfInBounds_toArray, List.set_cons_zero, List.set_cons_succ]
  -- STEP 10: Op.call { callee := Callee.value (Operand.func 23), args := #[t41, t45, t46], argTypes := #[31, 31, 31] }
  refine reg_step hR 10 (by kernel_rfl) rfl fun K hK => ?_
  try simp only [Act.put, List.getElem_toArray, List.getElem_cons_succ, List.getElem_cons_zero, List.setIfInBounds_toArray, List.set_cons_zero, List.set_cons_succ]
  rw [if_pos (by rfl)]
  refine wp_val _ (exec_sub64c _ _ _ rfl rfl rfl rfl e1 f1 h1) ?_
  refine hK.out _ _ ?_ ?_
  · exact (Kp.stays _).refl _
  clear hK K
  try simp only [Act.put, List.getElem_toArray, List.getElem_cons_succ, List.getElem_cons_zero, List.setIfInBounds_toArray, List.set_cons_zero, List.set_cons_succ]
  refine reg_take (v := ?_) hR 11 rfl (by kernel_rfl) (by kernel_rfl) (by kernel_rfl) (fun _ _ _ h => h) (by rfl) ?_ ?_
  rotate_left
  · intro W hW; go_simp; try with_reducible rfl
  try simp only [Act.put, List.getElem_toArray, List.getElem_cons_succ, List.getElem_cons_zero, List.setIfInBounds_toArray, List.set_cons_zero, List.set_cons_succ]
  refine reg_take (v := ?_) hR 12 rfl (by kernel_rfl) (by kernel_rfl) (by kernel_rfl) (fun _ _ _ h => h) (by rfl) ?_ ?_
  rotate_left
  · intro W hW; go_simp; try with_reducible rfl
  try simp only [Act.put, List.getElem_toArray, List.getElem_cons_succ, List.getElem_cons_zero, List.setIfInBounds_toArray, List.set_cons_zero, List.set_cons_succ]
  refine reg_take (v := ?_) hR 13 rfl (by kernel_rfl) (by kernel_rfl) (by kernel_rfl) (fun _ _ _ h => h) (by rfl) ?_ ?_
  rotate_left
  · intro W hW; go_simp; try with_reducible rfl
  try simp only [Act.put, List.getElem_toArray, List.getElem_cons_succ, List.getElem_cons_zero, List.setIfInBounds_toArray, List.set_cons_zero, List.set_cons_succ]
  refine reg_take (v := .pointer (some ⟨g, 1, none⟩)) hR 15 rfl (by kernel_rfl) (by kernel_rfl) (by kernel_rfl) (fun _ _ _ h => h) (by rfl) ?_ ?_
  · intro W hW; exact exec_at64 40 _ _ rfl Try.underlying40 rfl rfl (by omega)
  try simp only [Act.put, List.getElem_toArray, List.getElem_cons_succ, List.getElem_cons_zero, List.setIfInBounds_toArray, List.set_cons_zero, List.set_cons_succ]
  -- STEP 16: Op.store 31 (t51) (t48)
  refine reg_step hR 16 (by kernel_rfl) rfl fun K hK => ?_
  try simp only [Act.put, List.getElem_toArray, List.getElem_cons_succ, List.getElem_cons_zero, List.setIfInBounds_toArray, List.set_cons_zero, List.set_cons_succ]
  rw [if_pos (by rfl)]
  refine wp_store_cell _ _ rfl (g := g) (k := 1) rfl rfl hB2 (by simp) ?_
  refine hK.out _ _ ?_ ?_
  · exact Kp.of_cellG _ _
  clear hK K
  try simp only [Act.put, List.getElem_toArray, List.getElem_cons_succ, List.getElem_cons_zero, List.setIfInBounds_toArray, List.set_cons_zero, List.set_cons_succ]
  refine reg_take (v := ?_) hR 17 rfl (by kernel_rfl) (by kernel_rfl) (by kernel_rfl) (fun _ _ _ h => h) (by rfl) ?_ ?_
  rotate_left
  · intro W hW; go_simp; try with_reducible rfl
  try simp only [Act.put, List.getElem_toArray, List.getElem_cons_succ, List.getElem_cons_zero, List.setIfInBounds_toArray, List.set_cons_zero, List.set_cons_succ]
  refine reg_done (by kernel_rfl) ?_ _

  have hP3 := (Kp.stays _).trans hP2 ((Kp.stays _).trans (kp_drew _) (Kp.of_cellG (g := g) 1 (.int .u64 (s1.toNat : Int))))
  have hB3 := hB2.drew.setCell 1 (.int .u64 (s1.toNat : Int))
  have ca0 := cell_set (g := g) (i := 1) (v := .int .u64 (s1.toNat : Int)) ca0 (by omega)
  have cb0 := cell_set (g := g) (i := 1) (v := .int .u64 (s1.toNat : Int)) cb0 (by omega)
  go_wp2_with fail
  have hR := Kp.stays (· = g)
  refine reg_start (Kp (· = g)) follows_mixed ?_
-- region 4 of f19: 14 operations, draws: true
  refine reg_take (v := ?_) hR 0 rfl (by kernel_rfl) (by kernel_rfl) (by kernel_rfl) (fun _ _ _ h => h) (by rfl) ?_ ?_
  rotate_left
  · intro W hW; go_simp; try with_reducible rfl
  try simp only [Act.put, List.getElem_toArray, List.getElem_cons_succ, List.getElem_cons_zero, List.setIfInBounds_toArray, List.set_cons_zero, List.set_cons_succ]
  refine reg_take (v := ?_) hR 1 rfl (by kernel_rfl) (by kernel_rfl) (by kernel_rfl) (fun _ _ _ h => h) (by rfl) ?_ ?_
  rotate_left
  · intro W hW; go_simp; try with_reducible rfl
  try simp only [Act.put, List.getElem_toArray, List.getElem_cons_succ, List.getElem_cons_zero, List.setIfInBounds_toArray, List.set_cons_zero, List.set_cons_succ]
  refine reg_take (v := .pointer (some ⟨g, 0, none⟩)) hR 2 rfl (by kernel_rfl) (by kernel_rfl) (by kernel_rfl) (fun _ _ _ h => h) (by rfl) ?_ ?_
  · intro W hW; exact exec_at64 40 _ _ rfl Try.underlying40 rfl rfl (by omega)
  try simp only [Act.put, List.getElem_toArray, List.getElem_cons_succ, List.getElem_cons_zero, List.setIfInBounds_toArray, List.set_cons_zero, List.set_cons_succ]
  refine reg_take (v := ?_) hR 4 rfl (by kernel_rfl) (by kernel_rfl) (by kernel_rfl) (fun _ _ _ h => h) (by rfl) ?_ ?_
  rotate_left
  · intro W hW; go_simp; try with_reducible rfl
  try simp only [Act.put, List.getElem_toArray, List.getElem_cons_succ, List.getElem_cons_zero, List.setIfInBounds_toArray, List.set_cons_zero, List.set_cons_succ]
  refine reg_take (v := ?_) hR 5 rfl (by kernel_rfl) (by kernel_rfl) (by kernel_rfl) (fun _ _ _ h => h) (by rfl) ?_ ?_
  rotate_left
  · intro W hW; go_simp; try with_reducible rfl
  try simp only [Act.put, List.getElem_toArray, List.getElem_cons_succ, List.getElem_cons_zero, List.setIfInBounds_toArray, List.set_cons_zero, List.set_cons_succ]
  refine reg_take (v := .pointer (some ⟨k, 0, none⟩)) hR 6 rfl (by kernel_rfl) (by kernel_rfl) (by kernel_rfl) (fun _ _ _ h => h) (by rfl) ?_ ?_
  · intro W hW; exact exec_at64 40 _ _ rfl Try.underlying40 rfl rfl (by omega)
  try simp only [Act.put, List.getElem_toArray, List.getElem_cons_succ, List.getElem_cons_zero, List.setIfInBounds_toArray, List.set_cons_zero, List.set_cons_succ]
  refine reg_take (v := ?_) hR 8 rfl (by kernel_rfl) (by kernel_rfl) (by kernel_rfl) (fun _ _ _ h => h) (by rfl) ?_ ?_
  rotate_left
  · intro W hW; go_simp; try with_reducible rfl
  try simp only [Act.put, List.getElem_toArray, List.getElem_cons_succ, List.getElem_cons_zero, List.setIfInBounds_toArray, List.set_cons_zero, List.set_cons_succ]
  refine reg_take (v := ?_) hR 11 rfl (by kernel_rfl) (by kernel_rfl) (by kernel_rfl) (fun _ _ _ h => h) (by rfl) ?_ ?_
  rotate_left
  · intro W hW; go_simp; try with_reducible rfl
  try simp only [Act.put, List.getElem_toArray, List.getElem_cons_succ, List.getElem_cons_zero, List.setIfInBounds_toArray, List.set_cons_zero, List.set_cons_succ]
  refine reg_reads3 hR 3 7 9 (u := .int .u64 (a0.toNat : Int)) (v := .int .u64 (b0.toNat : Int)) (x := .int .u64 ((b0 + o1).toNat : Int)) (by kernel_rfl) (by kernel_rfl) (by kernel_rfl) rfl rfl rfl (by rfl) (by rfl) (by rfl) (by rfl) ?_ ?_ ?_ ?_ (by kernel_rfl) (by kernel_rfl) (by kernel_rfl) (fun _ _ _ h => h) (by rfl) ?_ (by kernel_rfl) (by kernel_rfl) (by rfl) ?_ (by kernel_rfl) (by rfl) ?_
  · exact exec_load_cell 31 _ rfl Try.isAgg31 rfl ca0
  · exact exec_load_cell 31 _ rfl Try.isAgg31 rfl cb0
  · exact exec_load_cell 31 _ rfl Try.isAgg31 rfl ca0
  · exact exec_load_cell 31 _ rfl Try.isAgg31 rfl cb0
  · intro W hW; exact exec_add64 _ _ rfl rfl rfl rfl
  · intro W hW; exact exec_add64 _ _ rfl rfl rfl rfl
  try simp only [Act.put, List.getElem_toArray, List.getElem_cons_succ, List.getElem_cons_zero, List.setIfInBounds_toArray, List.set_cons_zero, List.set_cons_succ]
  refine reg_take (v := .int .u64 ((a0 - (b0 + o1)).toNat : Int)) hR 10 rfl (by kernel_rfl) (by kernel_rfl) (by kernel_rfl) (fun _ _ _ h => h) (by rfl) ?_ ?_
  · intro W hW; exact exec_sub64 _ _ rfl rfl rfl rfl
  try simp only [Act.put, List.getElem_toArray, List.getElem_cons_succ, List.getElem_cons_zero, List.setIfInBounds_toArray, List.set_cons_zero, List.set_cons_succ]
  refine reg_take (v := .pointer (some ⟨g, 0, none⟩)) hR 12 rfl (by kernel_rfl) (by kernel_rfl) (by kernel_rfl) (fun _ _ _ h => h) (by rfl) ?_ ?_
  · intro W hW; exact exec_at64 40 _ _ rfl Try.underlying40 rfl rfl (by omega)
  try simp only [Act.put, List.getElem_toArray, List.getElem_cons_succ, List.getElem_cons_zero, List.setIfInBounds_toArray, List.set_cons_zero, List.set_cons_succ]
  -- STEP 13: Op.store 31 (t64) (t62)
  refine reg_step hR 13 (by kernel_rfl) rfl fun K hK => ?_
  try simp only [Act.put, List.getElem_toArray, List.getElem_cons_succ, List.getElem_cons_zero, List.setIfInBounds_toArray, List.set_cons_zero, List.set_cons_succ]
  rw [if_pos (by rfl)]
  refine wp_store_cell _ _ rfl (g := g) (k := 0) rfl rfl hB3 (by simp) ?_
  refine hK.out _ _ ?_ ?_
  · exact Kp.of_cellG _ _
  clear hK K
  try simp only [Act.put, List.getElem_toArray, List.getElem_cons_succ, List.getElem_cons_zero, List.setIfInBounds_toArray, List.set_cons_zero, List.set_cons_succ]
  refine reg_done (by kernel_rfl) ?_ _

  have hP4 := (Kp.stays _).trans hP3 ((Kp.stays _).trans (kp_drew _) (Kp.of_cellG (g := g) 0 (.int .u64 ((a0 - (b0 + o1)).toNat : Int))))
  have hB4 := hB3.drew.setCell 0 (.int .u64 ((a0 - (b0 + o1)).toNat : Int))

  go_wp2
  refine bodyPost_end (results_none rfl _ _ _) rfl ?_
  refine ⟨⟨_, rfl⟩, ?_, hP4⟩
  rw [HW.out]
  exact hB4
end Go.Proofs.Ytdfaliadkpdfpaa
