/- ShaPads: what is padded begins with its bytes and ends with how many bits they are. -/
import Derived.Test.YtgpgolegedfjfaaPp
import Derived.Test.YtgpgolegedfjfaaLiv
namespace Go.Proofs.Ytgpgolegedfjfaa
open Go.RowKit

theorem exec_str {o : Oper} {a : Act} {w : World} (x : Operand) (ho : o.op = .convert 31 9 x) {A : Option Addr} {n c top : Nat} {l : List UInt8} (hx : a.eval x = .slice A n c) (hr : Rd w top A n c l) : (execOp a.eval o).run Try.prog w = .ok (.value (.string (str l))) w := by
  unfold execOp
  simp only [ho, hx, run_str hr, Sem.run_bind, Result.andThen_ok, Sem.run_pure]
theorem exec_eqstr {o : Oper} {a : Act} {w : World} (x y : Operand) (ho : o.op = .binOp .eql 9 x y 9) {l m : List UInt8} {c : Bool} (hx : a.eval x = .string (str l)) (hy : a.eval y = .string (str m)) (h : decide (l = m) = c) : (execOp a.eval o).run Try.prog w = .ok (.value (.bool c)) w := by
  unfold execOp
  simp only [ho, hx, hy]
  simp [go_sem]
  rw [← h, Bool.eq_iff_iff]
  simp
theorem exec_nestr {o : Oper} {a : Act} {w : World} (x y : Operand) (ho : o.op = .binOp .neq 9 x y 9) {l : List UInt8} (hx : a.eval x = .string (str l)) (hy : a.eval y = .string (str l)) : (execOp a.eval o).run Try.prog w = .ok (.value (.bool false)) w := by
  unfold execOp
  simp only [ho, hx, hy]
  simp [go_sem]
theorem exec_at31 {o : Oper} {a : Act} {w : World} (x y : Operand) (ho : o.op = .indexAddr 31 x y) {ad : Addr} {n c k : Nat} (hx : a.eval x = .slice (some ad) n c) (hy : a.eval y = .int .i64 (k : Int)) (hk : k < n) : (execOp a.eval o).run Try.prog w = .ok (.value (.pointer (some (ad.add k)))) w := by
  unfold execOp
  simp only [ho, hx, hy]
  simp [Instr.indexAt, run_underlying Try.underlying31, asIntOf, hk, Try.sizeOf5, go_sem]

theorem Rd.drew_ {w : World} {top n c : Nat} {A : Option Addr} {l : List UInt8} (h : Rd w top A n c l) : Rd w.drew top A n c l := h.below (Below.refl _ _).drew

set_option maxHeartbeats 1600000 in
set_option maxRecDepth 8192 in
theorem ShaPads_walk {A A2 : Option Addr} {n c m c2 : Nat} {la lb : List UInt8} (w : World) (hra : Rd w w.heap.size A n c la) (hrb : Rd w w.heap.size A2 m c2 lb) :
    Calls Try.prog 5 #[.slice A n c, .slice A2 m c2] w fun e w' => e = .returned (.bool true) ∧ Below w.heap.size w w' := by
  have hln := hra.len
  have hlm := hrb.len
  have HRA := Lib.hid hra
  have HRB := Lib.hid hrb
  clear hra hrb
  by_cases hbig : n ≤ 2000 ∧ m ≤ 2000
  · obtain ⟨hn, hm⟩ := hbig
    obtain ⟨X, hXd⟩ : ∃ X, la ++ padB n = X := ⟨_, rfl⟩
    obtain ⟨Y, hYd⟩ : ∃ Y, lb ++ padB m = Y := ⟨_, rfl⟩
    obtain ⟨Pn, hPn⟩ : ∃ Pn, X.length = Pn := ⟨_, rfl⟩
    obtain ⟨Qn, hQn⟩ : ∃ Qn, Y.length = Qn := ⟨_, rfl⟩
    go_enter Try.func5, Try.ntmps5
    go_wp2_with fail
    refine (lives_any _).mono ?_; rintro e w1 ⟨rfl, hb1⟩
    have HB1 := Lib.hid hb1
    go_wp2_with fail
    refine (Own_any w1 ((HRA.out.below hb1).more hb1.size) (by omega)).mono ?_; rintro e w2 ⟨v2, rfl, ho2, hb2⟩
    obtain ⟨A3, c3, rfl, hr3⟩ := ho2.rdN hln
    have HB2 := Lib.hid (bl_call HB1.out hb2)
    clear hb1 hb2 ho2
    go_wp2_with fail
    refine (Pad_any w2 hr3 (by omega)).mono ?_; rintro e w3 ⟨v3, rfl, ho3, hb3⟩
    rw [hXd] at ho3
    obtain ⟨Ap, cp, rfl, hrp⟩ := ho3.rdN hPn
    have HB3 := Lib.hid (bl_call HB2.out hb3)
    have HRP := Lib.hid hrp
    clear hb3 ho3 hr3 hrp
    go_wp2_with fail
    refine (Own_any w3 ((HRB.out.below HB3.out).more HB3.out.size) (by omega)).mono ?_; rintro e w4 ⟨v4, rfl, ho4, hb4⟩
    obtain ⟨A5, c5, rfl, hr5⟩ := ho4.rdN hlm
    have HB4 := Lib.hid (bl_call HB3.out hb4)
    have HRP4 := Lib.hid (HRP.out.below hb4)
    have hs4 := hb4.size
    clear hb4 ho4
    go_wp2_with fail
    refine (Pad_any w4 hr5 (by omega)).mono ?_; rintro e w5 ⟨v5, rfl, ho5, hb5⟩
    rw [hYd] at ho5
    obtain ⟨Aq, cq, rfl, hrq⟩ := ho5.rdN hQn
    have HB5 := Lib.hid (bl_call HB4.out hb5)
    have HRP5 := Lib.hid ((HRP4.out.below (hb5.mono hs4)).more (Nat.le_trans hs4 hb5.size))
    have HRQ5 := Lib.hid hrq
    clear hb5 ho5 hr5 hrq HRP HRP4 hs4
    have hla := Lib.hid (HRA.out.below HB5.out).drew_
    have hlb := Lib.hid (HRB.out.below HB5.out).drew_
    have hX := Lib.hid HRP5.out.drew_
    have hY := Lib.hid HRQ5.out.drew_
    have hLX := padded_length (l := la) hln
    have hq128 : (239 - n % 128) % 128 < 128 := Nat.mod_lt _ (by omega)
    have hiff := padded_inj (a := la) (b := lb) (by omega) (by omega)
    rw [hln, hlm] at hiff
    have hfirst := padded_first (l := la) hln hn
    have HZERO := Lib.hid (padded_zero (l := la) hln hn)
    have HLAST := Lib.hid (padded_last (l := la) hln hn)
    have htake : (la ++ padB n).take n = la := List.take_left' hln
    rw [hXd] at hLX hiff hfirst htake
    rw [hYd] at hiff
    simp only [hXd] at HZERO HLAST
    rw [hPn] at hLX
    simp only [hPn] at HZERO HLAST
    obtain ⟨adp, rfl, _, _⟩ := HRP5.out.2.2 (by omega)
    have hcp := HRP5.out.cap
    have hncp : n ≤ cp := by omega
    have hPle : Pn ≤ 2200 := by omega
    have hPg1 : n + 17 ≤ Pn := by omega
    have hPg2 : Pn ≤ n + 144 := by omega
    obtain ⟨D, hD, hD1, hD2⟩ : ∃ D, Pn = n + D ∧ 17 ≤ D ∧ D ≤ 144 := ⟨17 + (239 - n % 128) % 128, by omega, by omega, by omega⟩
    have hP128 : Hid ((Pn : Int).tmod 128 = 0) := Lib.hid (by rw [Int.tmod_eq_emod_of_nonneg (by omega)]; omega)
    have hPD : Hid (IntKind.i64.wrap ((Pn : Int) - (n : Int)) = (D : Int)) := Lib.hid (by rw [IntKind.wrap_i64]; omega)
    have HD := Lib.hid hD
    clear hD
    have hXa : Hid (Rd w5.drew w5.heap.size (some adp) n cp la) := Lib.hid (by have := hX.out.take_ (k := n) (by omega); rwa [htake] at this)
    have h128 : Hid (w5.drew.cell? (adp.add n) = some (.int .u8 128)) := Lib.hid (by
      obtain ⟨ad', e, _, hc⟩ := hX.out.2.2 (by omega)
      injection e with e
      subst e
      exact hc n 128 hfirst)
    obtain ⟨cb, hcbd⟩ : ∃ cb, decide (la = lb) = cb := ⟨_, rfl⟩
    have hca := Lib.hid hcbd
    have hcX : Hid (decide (X = Y) = cb) := Lib.hid (by rw [← hcbd, Bool.eq_iff_iff, decide_eq_true_iff, decide_eq_true_iff]; exact hiff)
    clear hLX hq128 hiff hfirst htake hXd hYd hcbd
    go_wp2_with fail
    have hR := Sm.stays
    refine reg_start Sm follows_mixed ?_
-- region 6 of f5: 51 operations, draws: true
    refine reg_take (v := ?_) hR 0 rfl (by kernel_rfl) (by kernel_rfl) (by kernel_rfl) (fun _ _ _ h => h) (by rfl) ?_ ?_
    rotate_left
    · intro W hW; cases hW; go_simp; try with_reducible rfl
    try simp only [Act.put, List.getElem_toArray, List.getElem_cons_succ, List.getElem_cons_zero, List.setIfInBounds_toArray, List.set_cons_zero, List.set_cons_succ]
    refine reg_take (v := .string (str X)) hR 1 rfl (by kernel_rfl) (by kernel_rfl) (by kernel_rfl) (fun _ _ _ h => h) (by rfl) ?_ ?_
    · intro W hW; cases hW; exact exec_str _ rfl rfl hX.out
    try simp only [Act.put, List.getElem_toArray, List.getElem_cons_succ, List.getElem_cons_zero, List.setIfInBounds_toArray, List.set_cons_zero, List.set_cons_succ]
    refine reg_take (v := ?_) hR 2 rfl (by kernel_rfl) (by kernel_rfl) (by kernel_rfl) (fun _ _ _ h => h) (by rfl) ?_ ?_
    rotate_left
    · intro W hW; cases hW; go_simp; try with_reducible rfl
    try simp only [Act.put, List.getElem_toArray, List.getElem_cons_succ, List.getElem_cons_zero, List.setIfInBounds_toArray, List.set_cons_zero, List.set_cons_succ]
    refine reg_take (v := .string (str Y)) hR 3 rfl (by kernel_rfl) (by kernel_rfl) (by kernel_rfl) (fun _ _ _ h => h) (by rfl) ?_ ?_
    · intro W hW; cases hW; exact exec_str _ rfl rfl hY.out
    try simp only [Act.put, List.getElem_toArray, List.getElem_cons_succ, List.getElem_cons_zero, List.setIfInBounds_toArray, List.set_cons_zero, List.set_cons_succ]
    refine reg_take (v := .bool cb) hR 4 rfl (by kernel_rfl) (by kernel_rfl) (by kernel_rfl) (fun _ _ _ h => h) (by rfl) ?_ ?_
    · intro W hW; cases hW; exact exec_eqstr _ _ rfl rfl rfl hcX.out
    try simp only [Act.put, List.getElem_toArray, List.getElem_cons_succ, List.getElem_cons_zero, List.setIfInBounds_toArray, List.set_cons_zero, List.set_cons_succ]
    refine reg_take (v := ?_) hR 5 rfl (by kernel_rfl) (by kernel_rfl) (by kernel_rfl) (fun _ _ _ h => h) (by rfl) ?_ ?_
    rotate_left
    · intro W hW; cases hW; go_simp; try with_reducible rfl
    try simp only [Act.put, List.getElem_toArray, List.getElem_cons_succ, List.getElem_cons_zero, List.setIfInBounds_toArray, List.set_cons_zero, List.set_cons_succ]
    refine reg_take (v := .string (str la)) hR 6 rfl (by kernel_rfl) (by kernel_rfl) (by kernel_rfl) (fun _ _ _ h => h) (by rfl) ?_ ?_
    · intro W hW; cases hW; exact exec_str _ rfl rfl hla.out
    try simp only [Act.put, List.getElem_toArray, List.getElem_cons_succ, List.getElem_cons_zero, List.setIfInBounds_toArray, List.set_cons_zero, List.set_cons_succ]
    refine reg_take (v := ?_) hR 7 rfl (by kernel_rfl) (by kernel_rfl) (by kernel_rfl) (fun _ _ _ h => h) (by rfl) ?_ ?_
    rotate_left
    · intro W hW; cases hW; go_simp; try with_reducible rfl
    try simp only [Act.put, List.getElem_toArray, List.getElem_cons_succ, List.getElem_cons_zero, List.setIfInBounds_toArray, List.set_cons_zero, List.set_cons_succ]
    refine reg_take (v := .string (str lb)) hR 8 rfl (by kernel_rfl) (by kernel_rfl) (by kernel_rfl) (fun _ _ _ h => h) (by rfl) ?_ ?_
    · intro W hW; cases hW; exact exec_str _ rfl rfl hlb.out
    try simp only [Act.put, List.getElem_toArray, List.getElem_cons_succ, List.getElem_cons_zero, List.setIfInBounds_toArray, List.set_cons_zero, List.set_cons_succ]
    refine reg_take (v := .bool cb) hR 9 rfl (by kernel_rfl) (by kernel_rfl) (by kernel_rfl) (fun _ _ _ h => h) (by rfl) ?_ ?_
    · intro W hW; cases hW; exact exec_eqstr _ _ rfl rfl rfl hca.out
    try simp only [Act.put, List.getElem_toArray, List.getElem_cons_succ, List.getElem_cons_zero, List.setIfInBounds_toArray, List.set_cons_zero, List.set_cons_succ]
    refine reg_take (v := .bool false) hR 10 rfl (by kernel_rfl) (by kernel_rfl) (by kernel_rfl) (fun _ _ _ h => h) (by rfl) ?_ ?_
    · intro W hW; cases hW; go_simp; try (cases cb <;> rfl)
    try simp only [Act.put, List.getElem_toArray, List.getElem_cons_succ, List.getElem_cons_zero, List.setIfInBounds_toArray, List.set_cons_zero, List.set_cons_succ]
    refine reg_take (v := ?_) hR 11 rfl (by kernel_rfl) (by kernel_rfl) (by kernel_rfl) (fun _ _ _ h => h) (by rfl) ?_ ?_
    rotate_left
    · intro W hW; cases hW; go_simp; try with_reducible rfl
    try simp only [Act.put, List.getElem_toArray, List.getElem_cons_succ, List.getElem_cons_zero, List.setIfInBounds_toArray, List.set_cons_zero, List.set_cons_succ]
    refine reg_take (v := ?_) hR 12 rfl (by kernel_rfl) (by kernel_rfl) (by kernel_rfl) (fun _ _ _ h => h) (by rfl) ?_ ?_
    rotate_left
    · intro W hW; cases hW; go_simp; try with_reducible rfl
    try simp only [Act.put, List.getElem_toArray, List.getElem_cons_succ, List.getElem_cons_zero, List.setIfInBounds_toArray, List.set_cons_zero, List.set_cons_succ]
    refine reg_take (v := ?_) hR 13 rfl (by kernel_rfl) (by kernel_rfl) (by kernel_rfl) (fun _ _ _ h => h) (by rfl) ?_ ?_
    rotate_left
    · intro W hW; cases hW; go_simp; try with_reducible rfl
    try simp only [Act.put, List.getElem_toArray, List.getElem_cons_succ, List.getElem_cons_zero, List.setIfInBounds_toArray, List.set_cons_zero, List.set_cons_succ]
    refine reg_take (v := .int .i64 0) hR 14 rfl (by kernel_rfl) (by kernel_rfl) (by kernel_rfl) (fun _ _ _ h => h) (by rfl) ?_ ?_
    · intro W hW; cases hW; go_simp; first | exact hP128.out | (rw [hP128.out])
    try simp only [Act.put, List.getElem_toArray, List.getElem_cons_succ, List.getElem_cons_zero, List.setIfInBounds_toArray, List.set_cons_zero, List.set_cons_succ]
    refine reg_take (v := .bool false) hR 15 rfl (by kernel_rfl) (by kernel_rfl) (by kernel_rfl) (fun _ _ _ h => h) (by rfl) ?_ ?_
    · intro W hW; cases hW; go_simp; try rfl
    try simp only [Act.put, List.getElem_toArray, List.getElem_cons_succ, List.getElem_cons_zero, List.setIfInBounds_toArray, List.set_cons_zero, List.set_cons_succ]
    refine reg_take (v := .bool false) hR 16 rfl (by kernel_rfl) (by kernel_rfl) (by kernel_rfl) (fun _ _ _ h => h) (by rfl) ?_ ?_
    · intro W hW; cases hW; go_simp; try rfl
    try simp only [Act.put, List.getElem_toArray, List.getElem_cons_succ, List.getElem_cons_zero, List.setIfInBounds_toArray, List.set_cons_zero, List.set_cons_succ]
    refine reg_take (v := ?_) hR 17 rfl (by kernel_rfl) (by kernel_rfl) (by kernel_rfl) (fun _ _ _ h => h) (by rfl) ?_ ?_
    rotate_left
    · intro W hW; cases hW; go_simp; try with_reducible rfl
    try simp only [Act.put, List.getElem_toArray, List.getElem_cons_succ, List.getElem_cons_zero, List.setIfInBounds_toArray, List.set_cons_zero, List.set_cons_succ]
    refine reg_take (v := ?_) hR 18 rfl (by kernel_rfl) (by kernel_rfl) (by kernel_rfl) (fun _ _ _ h => h) (by rfl) ?_ ?_
    rotate_left
    · intro W hW; cases hW; go_simp; try with_reducible rfl
    try simp only [Act.put, List.getElem_toArray, List.getElem_cons_succ, List.getElem_cons_zero, List.setIfInBounds_toArray, List.set_cons_zero, List.set_cons_succ]
    refine reg_take (v := ?_) hR 19 rfl (by kernel_rfl) (by kernel_rfl) (by kernel_rfl) (fun _ _ _ h => h) (by rfl) ?_ ?_
    rotate_left
    · intro W hW; cases hW; go_simp; try with_reducible rfl
    try simp only [Act.put, List.getElem_toArray, List.getElem_cons_succ, List.getElem_cons_zero, List.setIfInBounds_toArray, List.set_cons_zero, List.set_cons_succ]
    refine reg_take (v := ?_) hR 20 rfl (by kernel_rfl) (by kernel_rfl) (by kernel_rfl) (fun _ _ _ h => h) (by rfl) ?_ ?_
    rotate_left
    · intro W hW; cases hW; go_simp; try with_reducible rfl
    try simp only [Act.put, List.getElem_toArray, List.getElem_cons_succ, List.getElem_cons_zero, List.setIfInBounds_toArray, List.set_cons_zero, List.set_cons_succ]
    refine reg_take (v := ?_) hR 21 rfl (by kernel_rfl) (by kernel_rfl) (by kernel_rfl) (fun _ _ _ h => h) (by rfl) ?_ ?_
    rotate_left
    · intro W hW; cases hW; go_simp; try with_reducible rfl
    try simp only [Act.put, List.getElem_toArray, List.getElem_cons_succ, List.getElem_cons_zero, List.setIfInBounds_toArray, List.set_cons_zero, List.set_cons_succ]
    refine reg_take (v := .int .i64 (D : Int)) hR 22 rfl (by kernel_rfl) (by kernel_rfl) (by kernel_rfl) (fun _ _ _ h => h) (by rfl) ?_ ?_
    · intro W hW; cases hW; go_simp; first | exact hPD.out | (rw [hPD.out])
    try simp only [Act.put, List.getElem_toArray, List.getElem_cons_succ, List.getElem_cons_zero, List.setIfInBounds_toArray, List.set_cons_zero, List.set_cons_succ]
    refine reg_take (v := .bool false) hR 23 rfl (by kernel_rfl) (by kernel_rfl) (by kernel_rfl) (fun _ _ _ h => h) (by rfl) ?_ ?_
    · intro W hW; cases hW; go_simp; first | done | omega | (rw [decide_eq_false_iff_not]; omega)
    try simp only [Act.put, List.getElem_toArray, List.getElem_cons_succ, List.getElem_cons_zero, List.setIfInBounds_toArray, List.set_cons_zero, List.set_cons_succ]
    refine reg_take (v := .bool false) hR 24 rfl (by kernel_rfl) (by kernel_rfl) (by kernel_rfl) (fun _ _ _ h => h) (by rfl) ?_ ?_
    · intro W hW; cases hW; go_simp; try rfl
    try simp only [Act.put, List.getElem_toArray, List.getElem_cons_succ, List.getElem_cons_zero, List.setIfInBounds_toArray, List.set_cons_zero, List.set_cons_succ]
    refine reg_take (v := ?_) hR 25 rfl (by kernel_rfl) (by kernel_rfl) (by kernel_rfl) (fun _ _ _ h => h) (by rfl) ?_ ?_
    rotate_left
    · intro W hW; cases hW; go_simp; try with_reducible rfl
    try simp only [Act.put, List.getElem_toArray, List.getElem_cons_succ, List.getElem_cons_zero, List.setIfInBounds_toArray, List.set_cons_zero, List.set_cons_succ]
    refine reg_take (v := ?_) hR 26 rfl (by kernel_rfl) (by kernel_rfl) (by kernel_rfl) (fun _ _ _ h => h) (by rfl) ?_ ?_
    rotate_left
    · intro W hW; cases hW; go_simp; try with_reducible rfl
    try simp only [Act.put, List.getElem_toArray, List.getElem_cons_succ, List.getElem_cons_zero, List.setIfInBounds_toArray, List.set_cons_zero, List.set_cons_succ]
    refine reg_take (v := ?_) hR 27 rfl (by kernel_rfl) (by kernel_rfl) (by kernel_rfl) (fun _ _ _ h => h) (by rfl) ?_ ?_
    rotate_left
    · intro W hW; cases hW; go_simp; try with_reducible rfl
    try simp only [Act.put, List.getElem_toArray, List.getElem_cons_succ, List.getElem_cons_zero, List.setIfInBounds_toArray, List.set_cons_zero, List.set_cons_succ]
    refine reg_take (v := ?_) hR 28 rfl (by kernel_rfl) (by kernel_rfl) (by kernel_rfl) (fun _ _ _ h => h) (by rfl) ?_ ?_
    rotate_left
    · intro W hW; cases hW; go_simp; try with_reducible rfl
    try simp only [Act.put, List.getElem_toArray, List.getElem_cons_succ, List.getElem_cons_zero, List.setIfInBounds_toArray, List.set_cons_zero, List.set_cons_succ]
    refine reg_take (v := ?_) hR 29 rfl (by kernel_rfl) (by kernel_rfl) (by kernel_rfl) (fun _ _ _ h => h) (by rfl) ?_ ?_
    rotate_left
    · intro W hW; cases hW; go_simp; try with_reducible rfl
    try simp only [Act.put, List.getElem_toArray, List.getElem_cons_succ, List.getElem_cons_zero, List.setIfInBounds_toArray, List.set_cons_zero, List.set_cons_succ]
    refine reg_take (v := .int .i64 (D : Int)) hR 30 rfl (by kernel_rfl) (by kernel_rfl) (by kernel_rfl) (fun _ _ _ h => h) (by rfl) ?_ ?_
    · intro W hW; cases hW; go_simp; first | exact hPD.out | (rw [hPD.out])
    try simp only [Act.put, List.getElem_toArray, List.getElem_cons_succ, List.getElem_cons_zero, List.setIfInBounds_toArray, List.set_cons_zero, List.set_cons_succ]
    refine reg_take (v := .bool false) hR 31 rfl (by kernel_rfl) (by kernel_rfl) (by kernel_rfl) (fun _ _ _ h => h) (by rfl) ?_ ?_
    · intro W hW; cases hW; go_simp; first | done | omega | (rw [decide_eq_false_iff_not]; omega)
    try simp only [Act.put, List.getElem_toArray, List.getElem_cons_succ, List.getElem_cons_zero, List.setIfInBounds_toArray, List.set_cons_zero, List.set_cons_succ]
    refine reg_take (v := .bool false) hR 32 rfl (by kernel_rfl) (by kernel_rfl) (by kernel_rfl) (fun _ _ _ h => h) (by rfl) ?_ ?_
    · intro W hW; cases hW; go_simp; try rfl
    try simp only [Act.put, List.getElem_toArray, List.getElem_cons_succ, List.getElem_cons_zero, List.setIfInBounds_toArray, List.set_cons_zero, List.set_cons_succ]
    refine reg_take (v := ?_) hR 33 rfl (by kernel_rfl) (by kernel_rfl) (by kernel_rfl) (fun _ _ _ h => h) (by rfl) ?_ ?_
    rotate_left
    · intro W hW; cases hW; go_simp; try with_reducible rfl
    try simp only [Act.put, List.getElem_toArray, List.getElem_cons_succ, List.getElem_cons_zero, List.setIfInBounds_toArray, List.set_cons_zero, List.set_cons_succ]
    refine reg_take (v := ?_) hR 34 rfl (by kernel_rfl) (by kernel_rfl) (by kernel_rfl) (fun _ _ _ h => h) (by rfl) ?_ ?_
    rotate_left
    · intro W hW; cases hW; go_simp; try with_reducible rfl
    try simp only [Act.put, List.getElem_toArray, List.getElem_cons_succ, List.getElem_cons_zero, List.setIfInBounds_toArray, List.set_cons_zero, List.set_cons_succ]
    refine reg_take (v := ?_) hR 35 rfl (by kernel_rfl) (by kernel_rfl) (by kernel_rfl) (fun _ _ _ h => h) (by rfl) ?_ ?_
    rotate_left
    · intro W hW; cases hW; go_simp; try with_reducible rfl
    try simp only [Act.put, List.getElem_toArray, List.getElem_cons_succ, List.getElem_cons_zero, List.setIfInBounds_toArray, List.set_cons_zero, List.set_cons_succ]
    refine reg_take (v := ?_) hR 36 rfl (by kernel_rfl) (by kernel_rfl) (by kernel_rfl) (fun _ _ _ h => h) (by rfl) ?_ ?_
    rotate_left
    · intro W hW; cases hW; go_simp; try with_reducible rfl
    try simp only [Act.put, List.getElem_toArray, List.getElem_cons_succ, List.getElem_cons_zero, List.setIfInBounds_toArray, List.set_cons_zero, List.set_cons_succ]
    refine reg_take (v := .slice (some adp) n cp) hR 37 rfl (by kernel_rfl) (by kernel_rfl) (by kernel_rfl) (fun _ _ _ h => h) (by rfl) ?_ ?_
    · intro W hW; cases hW; exact exec_slice31_hi _ _ rfl rfl rfl hncp rfl
    try simp only [Act.put, List.getElem_toArray, List.getElem_cons_succ, List.getElem_cons_zero, List.setIfInBounds_toArray, List.set_cons_zero, List.set_cons_succ]
    refine reg_take (v := .string (str la)) hR 38 rfl (by kernel_rfl) (by kernel_rfl) (by kernel_rfl) (fun _ _ _ h => h) (by rfl) ?_ ?_
    · intro W hW; cases hW; exact exec_str _ rfl rfl hXa.out
    try simp only [Act.put, List.getElem_toArray, List.getElem_cons_succ, List.getElem_cons_zero, List.setIfInBounds_toArray, List.set_cons_zero, List.set_cons_succ]
    refine reg_take (v := ?_) hR 39 rfl (by kernel_rfl) (by kernel_rfl) (by kernel_rfl) (fun _ _ _ h => h) (by rfl) ?_ ?_
    rotate_left
    · intro W hW; cases hW; go_simp; try with_reducible rfl
    try simp only [Act.put, List.getElem_toArray, List.getElem_cons_succ, List.getElem_cons_zero, List.setIfInBounds_toArray, List.set_cons_zero, List.set_cons_succ]
    refine reg_take (v := .string (str la)) hR 40 rfl (by kernel_rfl) (by kernel_rfl) (by kernel_rfl) (fun _ _ _ h => h) (by rfl) ?_ ?_
    · intro W hW; cases hW; exact exec_str _ rfl rfl hla.out
    try simp only [Act.put, List.getElem_toArray, List.getElem_cons_succ, List.getElem_cons_zero, List.setIfInBounds_toArray, List.set_cons_zero, List.set_cons_succ]
    refine reg_take (v := .bool false) hR 41 rfl (by kernel_rfl) (by kernel_rfl) (by kernel_rfl) (fun _ _ _ h => h) (by rfl) ?_ ?_
    · intro W hW; cases hW; exact exec_nestr _ _ rfl rfl rfl
    try simp only [Act.put, List.getElem_toArray, List.getElem_cons_succ, List.getElem_cons_zero, List.setIfInBounds_toArray, List.set_cons_zero, List.set_cons_succ]
    refine reg_take (v := .bool false) hR 42 rfl (by kernel_rfl) (by kernel_rfl) (by kernel_rfl) (fun _ _ _ h => h) (by rfl) ?_ ?_
    · intro W hW; cases hW; go_simp; try rfl
    try simp only [Act.put, List.getElem_toArray, List.getElem_cons_succ, List.getElem_cons_zero, List.setIfInBounds_toArray, List.set_cons_zero, List.set_cons_succ]
    refine reg_take (v := ?_) hR 43 rfl (by kernel_rfl) (by kernel_rfl) (by kernel_rfl) (fun _ _ _ h => h) (by rfl) ?_ ?_
    rotate_left
    · intro W hW; cases hW; go_simp; try with_reducible rfl
    try simp only [Act.put, List.getElem_toArray, List.getElem_cons_succ, List.getElem_cons_zero, List.setIfInBounds_toArray, List.set_cons_zero, List.set_cons_succ]
    refine reg_take (v := ?_) hR 44 rfl (by kernel_rfl) (by kernel_rfl) (by kernel_rfl) (fun _ _ _ h => h) (by rfl) ?_ ?_
    rotate_left
    · intro W hW; cases hW; go_simp; try with_reducible rfl
    try simp only [Act.put, List.getElem_toArray, List.getElem_cons_succ, List.getElem_cons_zero, List.setIfInBounds_toArray, List.set_cons_zero, List.set_cons_succ]
    refine reg_take (v := ?_) hR 45 rfl (by kernel_rfl) (by kernel_rfl) (by kernel_rfl) (fun _ _ _ h => h) (by rfl) ?_ ?_
    rotate_left
    · intro W hW; cases hW; go_simp; try with_reducible rfl
    try simp only [Act.put, List.getElem_toArray, List.getElem_cons_succ, List.getElem_cons_zero, List.setIfInBounds_toArray, List.set_cons_zero, List.set_cons_succ]
    refine reg_take (v := ?_) hR 46 rfl (by kernel_rfl) (by kernel_rfl) (by kernel_rfl) (fun _ _ _ h => h) (by rfl) ?_ ?_
    rotate_left
    · intro W hW; cases hW; go_simp; try with_reducible rfl
    try simp only [Act.put, List.getElem_toArray, List.getElem_cons_succ, List.getElem_cons_zero, List.setIfInBounds_toArray, List.set_cons_zero, List.set_cons_succ]
    refine reg_take (v := .pointer (some (adp.add n))) hR 47 rfl (by kernel_rfl) (by kernel_rfl) (by kernel_rfl) (fun _ _ _ h => h) (by rfl) ?_ ?_
    · intro W hW; cases hW; exact exec_at31 _ _ rfl rfl rfl (by omega)
    try simp only [Act.put, List.getElem_toArray, List.getElem_cons_succ, List.getElem_cons_zero, List.setIfInBounds_toArray, List.set_cons_zero, List.set_cons_succ]
    refine reg_take (v := .int .u8 128) hR 48 rfl (by kernel_rfl) (by kernel_rfl) (by kernel_rfl) (fun _ _ _ h => h) (by rfl) ?_ ?_
    · intro W hW; cases hW; exact exec_load_cell 5 _ rfl Try.isAgg5 rfl h128.out
    try simp only [Act.put, List.getElem_toArray, List.getElem_cons_succ, List.getElem_cons_zero, List.setIfInBounds_toArray, List.set_cons_zero, List.set_cons_succ]
    refine reg_take (v := .bool false) hR 49 rfl (by kernel_rfl) (by kernel_rfl) (by kernel_rfl) (fun _ _ _ h => h) (by rfl) ?_ ?_
    · intro W hW; cases hW; go_simp; try rfl
    try simp only [Act.put, List.getElem_toArray, List.getElem_cons_succ, List.getElem_cons_zero, List.setIfInBounds_toArray, List.set_cons_zero, List.set_cons_succ]
    refine reg_take (v := .bool false) hR 50 rfl (by kernel_rfl) (by kernel_rfl) (by kernel_rfl) (fun _ _ _ h => h) (by rfl) ?_ ?_
    · intro W hW; cases hW; go_simp; try rfl
    try simp only [Act.put, List.getElem_toArray, List.getElem_cons_succ, List.getElem_cons_zero, List.setIfInBounds_toArray, List.set_cons_zero, List.set_cons_succ]
    refine reg_done (by kernel_rfl) ?_ _


    have HX6 := Lib.hid hX.out
    have HB6 : Hid (Below w.heap.size w w5.drew) := Lib.hid HB5.out.drew
    clear hX hY hla hlb hXa h128 hca hcX hP128 hPD HRP5 HRQ5 HB1 HB2 HB3 HB4 HB5 HRA HRB
    generalize w5.drew = w6 at HX6 HB6 ⊢
    have hread : Hid (∀ k u, X[k]? = some u → w6.cell? (adp.add k) = some (B8 u)) := Lib.hid (by
      obtain ⟨ad', e, _, hc⟩ := HX6.out.2.2 (by omega)
      injection e with e
      subst e
      exact hc)
    clear HX6
    go_wp2_with fail
    go_loopw [7, 8] (fun v7 v8 wr => ∃ t k : Nat, t ≤ 4 ∧ k = Pn - 4 + t ∧ v8 = .int .i64 (k : Int) ∧ v7 = .int .i64 (nt n t : Int) ∧ wr = w6) (fun _ v8 _ => Pn - (intOf v8).toNat)
    case atStart => exact ⟨0, Pn - 4, by omega, rfl, val_int (by omega), rfl, rfl⟩
    case round =>
      obtain ⟨t, k, ht, hk, rfl, rfl, rfl⟩ := hrel
      by_cases hlt : t < 4
      · obtain ⟨b, hb1, hb2⟩ := HLAST.out t hlt
        rw [← hk] at hb1
        have hc := hread.out k b hb1
        rw [B8] at hc
        have hbb : b.toNat < 256 := b.toNat_lt
        have hnb : nt n t ≤ 16000 := by rcases t with _ | _ | _ | _ | t <;> simp only [nt] <;> omega
        have HK := Lib.hid hk
        have hkl : k < Pn := by omega
        have HB2 := Lib.hid hb2
        clear hk hb1 hb2
        generalize nt n t = N at HB2 hnb ⊢
        go_wp2
        go_roundw
        case rel => exact ⟨t + 1, k + 1, by omega, by have := HK.out; omega, by go_num, val_int (by rw [← HB2.out]; omega), by first | rfl | trivial⟩
        case measure => simp [intOf]; omega
      · obtain rfl : t = 4 := by omega
        obtain rfl : k = Pn := by omega
        have hN : nt n 4 = n * 8 := rfl
        rw [hN]
        clear hN hk
        go_wp2_with fail
        go_loopw [9] (fun v9 wz => ∃ i : Nat, n + 1 ≤ i ∧ i ≤ k - 4 ∧ v9 = .int .i64 (i : Int) ∧ wz = wr) (fun v9 _ => k - (intOf v9).toNat)
        case atStart => exact ⟨n + 1, by omega, by omega, by go_num, rfl⟩
        case round =>
          obtain ⟨i, hi1, hi2, rfl, rfl⟩ := hrel
          by_cases hil : i < k - 4
          · have hc := hread.out i 0 (HZERO.out i (by omega) (by omega))
            rw [show B8 0 = .int .u8 0 from rfl] at hc
            have hil2 : (i : Int) < (k : Int) - 4 := by omega
            go_wp2
            go_roundw
            case rel => exact ⟨i + 1, by omega, by omega, by go_num, by first | rfl | trivial⟩
            case measure => simp [intOf]; omega
          · have hil2 : (k : Int) - 4 ≤ (i : Int) := by omega
            go_wp2
            go_ret
            exact ⟨congrArg Ending.returned (congrArg Value.bool (by rw [beq_iff_eq]; omega)), HB6.out⟩
  · have hbig2 : 2000 < n ∨ 2000 < m := by omega
    go_enter Try.func5, Try.ntmps5
    go_wp2_with fail
    refine (lives_any _).mono ?_; rintro e w1 ⟨rfl, hb1⟩
    by_cases h1 : 2000 < n
    · go_wp2
      go_ret
      exact ⟨rfl, hb1⟩
    · have h2 : 2000 < m := by omega
      go_wp2
      go_ret
      exact ⟨rfl, hb1⟩
end Go.Proofs.Ytgpgolegedfjfaa
