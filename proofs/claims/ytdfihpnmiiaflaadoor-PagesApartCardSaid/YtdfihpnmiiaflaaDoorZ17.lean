/- The document's own SHA-512: a piece. -/
import Derived.Test.YtdfihpnmiiaflaaDoorZ16
set_option linter.unusedSimpArgs false
set_option linter.unusedVariables false
namespace Go.Proofs.YtdfihpnmiiaflaaDoor
set_option maxRecDepth 8192
set_option linter.unusedSimpArgs false
set_option linter.unusedVariables false
open Go.RowKit

theorem wp_exec' {op : Oper} {a : Act} {w : World} {K : Act → World → Prop} {Q : Exit → Act → World → Prop} (v : Value) (hx : (execOp a.eval op).run Tryd.prog w = .ok (.value v) w) (h : K (a.put op.dst v) w) : op.wp Tryd.prog a w K Q := by
  unfold Oper.wp
  rw [hx]
  exact h
theorem Kc.cellO {w w' : World} {g t : Nat} {p : Addr} (h : Kc g t w w') (hp : p.block < w.heap.size) (hne : p.block ≠ g) : w'.cell? p = w.cell? p := World.cell?_of_block (h.block p.block hp hne)
theorem exec_ix31 {o : Oper} {a : Act} {w : World} (x y : Operand) (ho : o.op = .indexAddr 30 x y) {ad : Addr} {n c k : Nat} {i : Int} (hx : a.eval x = .slice (some ad) n c) (hy : a.eval y = .int .i64 i) (hi : i = (k : Int)) (hk : k < n) :
    (execOp a.eval o).run Tryd.prog w = .ok (.value (.pointer (some (ad.add k)))) w := by
  subst hi
  unfold execOp
  simp only [ho, hx, hy]
  simp [Instr.indexAt, run_underlying Tryd.underlying30, asIntOf, hk, Tryd.sizeOf5, go_sem]
theorem exec_shr7 {o : Oper} {a : Act} {w : World} (x : Operand) (ho : o.op = .binOp .shr 78 x (.const (.int .u64 7)) 91) {m s : UInt64} (h : UInt64.ofNat (m.toNat / 2 ^ 7) = s) (hx : a.eval x = .int .u64 (m.toNat : Int)) :
    (execOp a.eval o).run Tryd.prog w = .ok (.value (.int .u64 (s.toNat : Int))) w := by
  have e := divU m 7
  rw [h, show (2 : Int) ^ 7 = 128 by decide] at e
  have hk : a.eval (.const (.int .u64 7)) = .int .u64 7 := rfl
  unfold execOp
  simp only [ho, hx, hk]
  simp [go_sem, Tryd.underlying78, Tryd.underlying91]
  exact e
theorem exec_shr6 {o : Oper} {a : Act} {w : World} (x : Operand) (ho : o.op = .binOp .shr 78 x (.const (.int .u64 6)) 91) {m s : UInt64} (h : UInt64.ofNat (m.toNat / 2 ^ 6) = s) (hx : a.eval x = .int .u64 (m.toNat : Int)) :
    (execOp a.eval o).run Tryd.prog w = .ok (.value (.int .u64 (s.toNat : Int))) w := by
  have e := divU m 6
  rw [h, show (2 : Int) ^ 6 = 64 by decide] at e
  have hk : a.eval (.const (.int .u64 6)) = .int .u64 6 := rfl
  unfold execOp
  simp only [ho, hx, hk]
  simp [go_sem, Tryd.underlying78, Tryd.underlying91]
  exact e

/-- The words made, those behind them: word t is being made. -/
def schP (p : List UInt8) (t : Nat) (N : UInt64) : List Value := (schZ p t).set t (B64 N)
theorem schP_length (p : List UInt8) (t : Nat) (N : UInt64) (ht : t ≤ 80) : (schP p t N).length = 80 := by rw [schP, List.length_set, schZ_length p t ht]
theorem schP_zero (p : List UInt8) (t : Nat) (ht : t < 80) : schP p t 0 = schZ p t := by
  have h := sch_length p t
  have e := List.set_append_right (s := sch p t) (t := List.replicate (80 - t) (0 : UInt64)) (i := t) (x := (0 : UInt64)) (by omega)
  rw [schP, schZ, cs64, ← List.map_set, e, h, Nat.sub_self, show 80 - t = (80 - (t + 1)) + 1 from by omega, List.replicate_succ, List.set_cons_zero]
theorem schP_set (p : List UInt8) (t : Nat) (N M : UInt64) : (schP p t N).set t (B64 M) = schP p t M := by rw [schP, schP, List.set_set]
theorem schP_at (p : List UInt8) (t : Nat) (N : UInt64) (ht : t < 80) : (schP p t N)[t]? = some (B64 N) := by
  rw [schP, List.getElem?_set_self (by rw [schZ_length p t (by omega)]; exact ht)]

set_option maxHeartbeats 6400000 in
theorem Qpiece_any (st : List UInt64) (hs : st.length = 8) {ad : Addr} {c : Nat} {p : List UInt8} (w : World) (hr : Rd w w.heap.size (some ad) 128 c p) :
    Calls Tryd.prog 62 #[.agg (cs64 st).toArray, .slice (some ad) 128 c] w fun e w' => e = .returned (.agg (cs64 (mix KK st p)).toArray) ∧ Below w.heap.size w w' := by
  have HKL := Lib.hid (show (cs64 KK).length = 80 by decide +kernel)
  have HSL := Lib.hid (show (cs64 st).length = 8 by rw [cs64_length, hs])
  have HR := Lib.hid hr
  have hadl0 : ad.block < w.heap.size := by
    obtain ⟨ad', e, h, _⟩ := hr.2.2 (by omega)
    injection e with e
    subst e
    exact h
  have hb1 := bl_alloc (bl_alloc (bl0 w) (.cells (cs64 st).toArray 87)) (.cells z38.toArray 87)
  have HB1 := Lib.hid hb1
  have HS1 := Lib.hid ((Bk.new w (cs64 st) 87).old (.cells z38.toArray 87))
  have HZ1 : Hid (Bk ((w.alloc (.cells (cs64 st).toArray 87)).alloc (.cells z38.toArray 87)) (w.heap.size + 1) z38) := Lib.hid (by simpa using Bk.new (w.alloc (.cells (cs64 st).toArray 87)) z38 87)
  clear hr hb1
  go_enter Tryd.func62, Tryd.ntmps62
  go_wp2_with (refine wpList_alloc_z rfl 87 rfl z38 zero38 ?_)
  refine (QK_any _).mono ?_
  rintro e w2 ⟨rfl, hb2⟩
  have hs2 : w.heap.size + 2 ≤ w2.heap.size := by have := hb2.size; simp at this; omega
  have HS2 := Lib.hid (HS1.out.keep hb2)
  have HZ2 := Lib.hid (HZ1.out.keep hb2)
  have HB2 := Lib.hid (bl_call HB1.out hb2)
  have HK0 := Lib.hid (Bk.new w2 z47 97)
  have hkk : Bk ((w2.alloc (.cells z47.toArray 97)).setRow w2.heap.size (cs64 KK).toArray) w2.heap.size (cs64 KK) := HK0.out.setRow _
  have HK3 := Lib.hid hkk
  have HS3 := Lib.hid ((HS2.out.old (.cells z47.toArray 97)).other (show w.heap.size ≠ w2.heap.size by omega) (cs64 KK).toArray)
  have HZ3 := Lib.hid ((HZ2.out.old (.cells z47.toArray 97)).other (show w.heap.size + 1 ≠ w2.heap.size by omega) (cs64 KK).toArray)
  have HB3 := Lib.hid (bl_setRow (bl_alloc HB2.out (.cells z47.toArray 97)) (show w.heap.size ≤ w2.heap.size by omega) (cs64 KK).toArray)
  clear hb2 HS2 HZ2 HB2 HB1 HS1 HZ1 hkk
  go_wp2_with (first | (refine wpList_alloc_z rfl 97 rfl z47 zero47 ?_) | (refine wpList_store_bk rfl 97 _ _ rfl w2.heap.size rfl (cs64 KK) z47 rfl HK0.out (by rw [HKL.out]; exact info47) (by rw [HKL.out]; exact len_z47) (cs64_one _) ?_))
  obtain ⟨w3, hw3⟩ : ∃ w3, w3 = (w2.alloc (.cells z47.toArray 97)).setRow w2.heap.size (cs64 KK).toArray := ⟨_, rfl⟩
  have hs3 : w3.heap.size = w2.heap.size + 1 := by rw [hw3]; simp
  rw [← hw3] at HK3 HS3 HZ3 HB3 ⊢
  clear hw3 HK0
  obtain ⟨gk, hgk⟩ : ∃ g, g = w2.heap.size := ⟨_, rfl⟩
  rw [← hgk] at HK3 hs2 hs3 ⊢
  clear hgk
  have hgk3 := HK3.out.lt
  have HW4 := Lib.hid (Bk.new w3 z47 97)
  have HK4 := Lib.hid (HK3.out.old (.cells z47.toArray 97))
  have HS4 := Lib.hid (HS3.out.old (.cells z47.toArray 97))
  have HZ4 := Lib.hid (HZ3.out.old (.cells z47.toArray 97))
  have HB4 := Lib.hid (bl_alloc HB3.out (.cells z47.toArray 97))
  obtain ⟨w4, hw4⟩ : ∃ w4, w4 = w3.alloc (.cells z47.toArray 97) := ⟨_, rfl⟩
  rw [← hw4] at HW4 HK4 HS4 HZ4 HB4 ⊢
  rw [hs3] at HW4 hgk3
  obtain ⟨gw, hgw⟩ : ∃ g, g = gk + 1 := ⟨_, rfl⟩
  rw [← hgw] at HW4 hgk3 ⊢
  clear hw4 hgw hs3 HK3 HS3 HZ3 HB3
  go_loopw [7] (fun vi wr => ∃ t : Nat, t ≤ 80 ∧ vi = .int .i64 (t : Int) ∧ Hid (Bk wr w.heap.size (cs64 st)) ∧ Hid (Bk wr (w.heap.size + 1) z38) ∧ Hid (Bk wr gk (cs64 KK)) ∧ Hid (Bk wr gw (schZ p t)) ∧ Hid (Below w.heap.size w wr)) (fun vi _ => 80 - (intOf vi).toNat)
  case atStart => exact ⟨0, by omega, rfl, HS4, HZ4, HK4, Lib.hid (by have := HW4.out; simpa [schZ, sch, z47] using this), HB4⟩
  case round =>
    clear HW4 HK4 HS4 HZ4 HB4
    obtain ⟨t, ht, rfl, HS, HZ, HK, HW, HB⟩ := hrel
    have HX := Lib.hid (schZ_set p t)
    have HLW := Lib.hid (schZ_length p t ht)
    by_cases hlt : t < 80
    · by_cases h16 : t < 16
      · have hl8 : ((p.drop (8 * t)).take 8).length = 8 := by rw [List.length_take, List.length_drop]; have := HR.out.len; omega
        have HN8 := Lib.hid (show nextW p t (sch p t) = wordOf ((p.drop (8 * t)).take 8) from by rw [nextW, if_pos h16])
        have HQ := Lib.hid (fun i (hi : i < 8) => show ∃ b, ((p.drop (8 * t)).take 8)[i]? = some b ∧ w.cell? (ad.add (8 * t + i)) = some (.int .u8 (b.toNat : Int)) from by
          obtain ⟨ad', e, _, hcl⟩ := HR.out.2.2 (by omega)
          injection e with e
          subst e
          have hlp : 8 * t + i < p.length := by have := HR.out.len; omega
          exact ⟨p[8 * t + i], by rw [List.getElem?_take, if_pos hi, List.getElem?_drop, List.getElem?_eq_getElem hlp], hcl _ _ (List.getElem?_eq_getElem hlp)⟩)
        have HP0 := Lib.hid (schP_zero p t hlt)
        have HPS := Lib.hid (schP_set p t)
        have HPA := Lib.hid (fun N => schP_at p t N hlt)
        have HPL := Lib.hid (fun N => schP_length p t N ht)
        have HWP : Hid (Bk wr gw (schP p t 0)) := Lib.hid (by rw [HP0.out]; exact HW.out)
        generalize (p.drop (8 * t)).take 8 = q at hl8 HN8 HQ
        go_wp2
        go_loopw [8] (fun vi wr => ∃ i : Nat, i ≤ 8 ∧ vi = .int .i64 (i : Int) ∧ Hid (Bk wr w.heap.size (cs64 st)) ∧ Hid (Bk wr (w.heap.size + 1) z38) ∧ Hid (Bk wr gk (cs64 KK)) ∧ Hid (Bk wr gw (schP p t ((q.take i).foldl wordStep 0))) ∧ Hid (Below w.heap.size w wr)) (fun vi _ => 8 - (intOf vi).toNat)
        case atStart => exact ⟨0, by omega, rfl, HS, HZ, HK, HWP, HB⟩
        case round =>
          clear HS HZ HK HWP HB HW
          obtain ⟨i, hi, rfl, HS, HZ, HK, HW, HB⟩ := hrel
          by_cases hli : i < 8
          · obtain ⟨b, hqb, hbc0⟩ := HQ.out i hli
            have HFW := Lib.hid (show (q.take (i + 1)).foldl wordStep 0 = wordStep ((q.take i).foldl wordStep 0) b by rw [List.take_add_one, hqb, List.foldl_append]; rfl)
            generalize (q.take i).foldl wordStep 0 = N at HW HFW
            have HWS := Lib.hid (step_word N b)
            have hbb : b.toNat < 256 := b.toNat_lt
            have hNN : N.toNat < 18446744073709551616 := N.toNat_lt
            have hbw := HB.out.size
            have hadl : ad.block < wr.heap.size := Nat.lt_of_lt_of_le hadl0 hbw
            have hadw : ad.block ≠ gw := by omega
            have hbc : wr.drew.cell? (ad.add (8 * t + i)) = some (.int .u8 (b.toNat : Int)) := (HB.out.cell (by rw [add_block]; exact hadl0)).trans hbc0
            have hcN : wr.drew.cell? ⟨gw, t, none⟩ = some (.int .u64 (N.toNat : Int)) := HW.out.cell (HPA.out N)
            have HLP := Lib.hid (HPL.out N)
            have HPS2 := Lib.hid (HPS.out N (wordStep N b))
            clear hqb hbc0 HX HN8 HPS HPA HPL HQ HP0
            go_wp2_with fail
            have hR := Kc.stays (gw) t
            refine reg_start (Kc (gw) t) follows_mixed ?_
            refine reg_take (v := .int .i64 ((t : Nat) : Int)) hR 0 rfl (by kernel_rfl) (by kernel_rfl) (by kernel_rfl) (fun _ _ _ h => h) (by rfl) ?_ ?_
            · intro W hW; go_simp; try with_reducible rfl
            try simp only [Act.put, List.getElem_toArray, List.getElem_cons_succ, List.getElem_cons_zero, List.setIfInBounds_toArray, List.set_cons_zero, List.set_cons_succ]
            refine reg_take (v := .int .i64 ((t : Nat) : Int)) hR 1 rfl (by kernel_rfl) (by kernel_rfl) (by kernel_rfl) (fun _ _ _ h => h) (by rfl) ?_ ?_
            · intro W hW; go_simp; try with_reducible rfl
            try simp only [Act.put, List.getElem_toArray, List.getElem_cons_succ, List.getElem_cons_zero, List.setIfInBounds_toArray, List.set_cons_zero, List.set_cons_succ]
            refine reg_take (v := .pointer (some ⟨gw, t, none⟩)) hR 2 rfl (by kernel_rfl) (by kernel_rfl) (by kernel_rfl) (fun _ _ _ h => h) (by rfl) ?_ ?_
            · intro W hW; exact exec_at64 97 _ _ rfl Tryd.underlying97 rfl rfl (by omega)
            try simp only [Act.put, List.getElem_toArray, List.getElem_cons_succ, List.getElem_cons_zero, List.setIfInBounds_toArray, List.set_cons_zero, List.set_cons_succ]
            refine reg_take (v := .slice (some ad) 128 c) hR 5 rfl (by kernel_rfl) (by kernel_rfl) (by kernel_rfl) (fun _ _ _ h => h) (by rfl) ?_ ?_
            · intro W hW; go_simp; try with_reducible rfl
            try simp only [Act.put, List.getElem_toArray, List.getElem_cons_succ, List.getElem_cons_zero, List.setIfInBounds_toArray, List.set_cons_zero, List.set_cons_succ]
            refine reg_take (v := .int .i64 ((t : Nat) : Int)) hR 6 rfl (by kernel_rfl) (by kernel_rfl) (by kernel_rfl) (fun _ _ _ h => h) (by rfl) ?_ ?_
            · intro W hW; go_simp; try with_reducible rfl
            try simp only [Act.put, List.getElem_toArray, List.getElem_cons_succ, List.getElem_cons_zero, List.setIfInBounds_toArray, List.set_cons_zero, List.set_cons_succ]
            refine reg_take (v := .int .i64 (8 * (t : Int))) hR 7 rfl (by kernel_rfl) (by kernel_rfl) (by kernel_rfl) (fun _ _ _ h => h) (by rfl) ?_ ?_
            · intro W hW; go_simp; try rw [IntWalk.i64_in _ (by omega)]
            try simp only [Act.put, List.getElem_toArray, List.getElem_cons_succ, List.getElem_cons_zero, List.setIfInBounds_toArray, List.set_cons_zero, List.set_cons_succ]
            refine reg_take (v := .int .i64 ((i : Nat) : Int)) hR 8 rfl (by kernel_rfl) (by kernel_rfl) (by kernel_rfl) (fun _ _ _ h => h) (by rfl) ?_ ?_
            · intro W hW; go_simp; try with_reducible rfl
            try simp only [Act.put, List.getElem_toArray, List.getElem_cons_succ, List.getElem_cons_zero, List.setIfInBounds_toArray, List.set_cons_zero, List.set_cons_succ]
            refine reg_take (v := .int .i64 (8 * (t : Int) + (i : Int))) hR 9 rfl (by kernel_rfl) (by kernel_rfl) (by kernel_rfl) (fun _ _ _ h => h) (by rfl) ?_ ?_
            · intro W hW; go_simp; try rw [IntWalk.i64_in _ (by omega)]
            try simp only [Act.put, List.getElem_toArray, List.getElem_cons_succ, List.getElem_cons_zero, List.setIfInBounds_toArray, List.set_cons_zero, List.set_cons_succ]
            refine reg_take (v := .pointer (some (ad.add (8 * t + i)))) hR 10 rfl (by kernel_rfl) (by kernel_rfl) (by kernel_rfl) (fun _ _ _ h => h) (by rfl) ?_ ?_
            · intro W hW; exact exec_ix31 _ _ rfl rfl rfl (by omega) (by omega)
            try simp only [Act.put, List.getElem_toArray, List.getElem_cons_succ, List.getElem_cons_zero, List.setIfInBounds_toArray, List.set_cons_zero, List.set_cons_succ]
            refine reg_take (v := .int .u8 (b.toNat : Int)) hR 11 rfl (by kernel_rfl) (by kernel_rfl) (by kernel_rfl) (fun _ _ _ h => h) (by rfl) ?_ ?_
            · intro W hW; exact exec_load_cell 5 _ rfl Tryd.isAgg5 rfl ((hW.cellO (by rw [add_block]; exact hadl) (by rw [add_block]; omega)).trans hbc)
            try simp only [Act.put, List.getElem_toArray, List.getElem_cons_succ, List.getElem_cons_zero, List.setIfInBounds_toArray, List.set_cons_zero, List.set_cons_succ]
            refine reg_take (v := .int .u64 (b.toNat : Int)) hR 12 rfl (by kernel_rfl) (by kernel_rfl) (by kernel_rfl) (fun _ _ _ h => h) (by rfl) ?_ ?_
            · intro W hW; go_simp; rw [wrapN, Nat.mod_eq_of_lt (by omega)]
            try simp only [Act.put, List.getElem_toArray, List.getElem_cons_succ, List.getElem_cons_zero, List.setIfInBounds_toArray, List.set_cons_zero, List.set_cons_succ]
            refine reg_step hR 3 (by kernel_rfl) rfl fun K hK => ?_
            try simp only [Act.put, List.getElem_toArray, List.getElem_cons_succ, List.getElem_cons_zero, List.setIfInBounds_toArray, List.set_cons_zero, List.set_cons_succ]
            rw [if_pos (by rfl)]
            refine wp_exec' (.int .u64 (N.toNat : Int)) (exec_load_cell 78 _ rfl Tryd.isAgg78 rfl (hcN)) ?_
            refine hK.out _ _ ((Kc.stays _ _).refl _) ?_
            clear hK K
            try simp only [Act.put, List.getElem_toArray, List.getElem_cons_succ, List.getElem_cons_zero, List.setIfInBounds_toArray, List.set_cons_zero, List.set_cons_succ]
            refine reg_take (v := .int .u64 (IntKind.u64.wrap ((N.toNat : Int) * 256))) hR 4 rfl (by kernel_rfl) (by kernel_rfl) (by kernel_rfl) (fun _ _ _ h => h) (by rfl) ?_ ?_
            · intro W hW; go_simp; try with_reducible rfl
            try simp only [Act.put, List.getElem_toArray, List.getElem_cons_succ, List.getElem_cons_zero, List.setIfInBounds_toArray, List.set_cons_zero, List.set_cons_succ]
            refine reg_take (v := .int .u64 ((wordStep N b).toNat : Int)) hR 13 rfl (by kernel_rfl) (by kernel_rfl) (by kernel_rfl) (fun _ _ _ h => h) (by rfl) ?_ ?_
            · intro W hW; go_simp; try rw [HWS.out]
            try simp only [Act.put, List.getElem_toArray, List.getElem_cons_succ, List.getElem_cons_zero, List.setIfInBounds_toArray, List.set_cons_zero, List.set_cons_succ]
            refine reg_take (v := .pointer (some ⟨gw, t, none⟩)) hR 14 rfl (by kernel_rfl) (by kernel_rfl) (by kernel_rfl) (fun _ _ _ h => h) (by rfl) ?_ ?_
            · intro W hW; exact exec_at64 97 _ _ rfl Tryd.underlying97 rfl rfl (by omega)
            try simp only [Act.put, List.getElem_toArray, List.getElem_cons_succ, List.getElem_cons_zero, List.setIfInBounds_toArray, List.set_cons_zero, List.set_cons_succ]
            refine reg_step hR 15 (by kernel_rfl) rfl fun K hK => ?_
            try simp only [Act.put, List.getElem_toArray, List.getElem_cons_succ, List.getElem_cons_zero, List.setIfInBounds_toArray, List.set_cons_zero, List.set_cons_succ]
            rw [if_pos (by rfl)]
            refine wp_store_cell _ _ rfl rfl rfl HW.out.drew (by rw [HLP.out]; omega) ?_
            refine hK.out _ _ (Kc.of_set _ _) ?_
            clear hK K
            try simp only [Act.put, List.getElem_toArray, List.getElem_cons_succ, List.getElem_cons_zero, List.setIfInBounds_toArray, List.set_cons_zero, List.set_cons_succ]
            refine reg_done (by kernel_rfl) ?_ _
            have HS5 := Lib.hid (HS.out.drew.setCell_ne (show w.heap.size ≠ gw by omega) t (B64 (wordStep N b)))
            have HZ5 := Lib.hid (HZ.out.drew.setCell_ne (show w.heap.size + 1 ≠ gw by omega) t (B64 (wordStep N b)))
            have HK5 := Lib.hid (HK.out.drew.setCell_ne (show gk ≠ gw by omega) t (B64 (wordStep N b)))
            have HW5 := Lib.hid (HW.out.drew.setCell t (B64 (wordStep N b)))
            have HB5 := Lib.hid (bl_setCell (w0 := w) HB.out.drew (show w.heap.size ≤ gw by omega) t (B64 (wordStep N b)))
            rw [HPS2.out] at HW5
            unfold B64 at HS5 HZ5 HK5 HW5 HB5
            clear HS HZ HK HW HB hbc hcN
            go_wp2
            go_roundw
            case rel => exact ⟨i + 1, by omega, by go_num, HS5, HZ5, HK5, Lib.hid (by rw [HFW.out]; exact HW5.out), HB5⟩
            case measure => simp [intOf]; omega
          · obtain rfl : i = 8 := by omega
            have hw := HW.out
            rw [List.take_of_length_le (by omega), show (q.foldl wordStep 0) = wordOf q from rfl, ← HN8.out, schP, HX.out hlt] at hw
            have HW5 := Lib.hid hw
            clear hw HW HX HN8 HPS HPA HPL HQ HP0
            go_wp2
            go_roundw
            case rel => exact ⟨t + 1, by omega, by go_num, HS, HZ, HK, HW5, HB⟩
            case measure => simp [intOf]; omega
      · have e16 := Lib.hid (wrapI_sub t 16 16 rfl (by omega) ht)
        have e15 := Lib.hid (wrapI_sub t 15 15 rfl (by omega) ht)
        have e7 := Lib.hid (wrapI_sub t 7 7 rfl (by omega) ht)
        have e2 := Lib.hid (wrapI_sub t 2 2 rfl (by omega) ht)
        have HL := Lib.hid (schZ_at p t)
        have HN := Lib.hid (show nextW p t (sch p t) = (sch p t).getD (t - 16) 0 + shf3 1 8 7 ((sch p t).getD (t - 15) 0) + (sch p t).getD (t - 7) 0 + shf3 19 61 6 ((sch p t).getD (t - 2) 0) from by rw [nextW, if_neg h16])
        have HL16 := Lib.hid (HL.out 16 (by omega) (by omega))
        have HL15 := Lib.hid (HL.out 15 (by omega) (by omega))
        have HL7 := Lib.hid (HL.out 7 (by omega) (by omega))
        have HL2 := Lib.hid (HL.out 2 (by omega) (by omega))
        clear HL
        generalize hx16 : (sch p t).getD (t - 16) 0 = X16 at HL16 HN
        generalize hx15 : (sch p t).getD (t - 15) 0 = X15 at HL15 HN
        generalize hx7 : (sch p t).getD (t - 7) 0 = X7 at HL7 HN
        generalize hx2 : (sch p t).getD (t - 2) 0 = X2 at HL2 HN
        clear hx16 hx15 hx7 hx2
        obtain ⟨A1, p1⟩ : ∃ A, Hid (rotr 1 X15 = A) := ⟨_, Lib.hid rfl⟩
        obtain ⟨A2, p2⟩ : ∃ A, Hid (rotr 8 X15 = A) := ⟨_, Lib.hid rfl⟩
        obtain ⟨A3, q1⟩ : ∃ A, Hid (A1 ^^^ A2 = A) := ⟨_, Lib.hid rfl⟩
        obtain ⟨A4, q2⟩ : ∃ A, Hid (UInt64.ofNat (X15.toNat / 2 ^ 7) = A) := ⟨_, Lib.hid rfl⟩
        obtain ⟨A5, q3⟩ : ∃ A, Hid (A3 ^^^ A4 = A) := ⟨_, Lib.hid rfl⟩
        obtain ⟨A6, q4⟩ : ∃ A, Hid (X16 + A5 = A) := ⟨_, Lib.hid rfl⟩
        obtain ⟨A7, q5⟩ : ∃ A, Hid (A6 + X7 = A) := ⟨_, Lib.hid rfl⟩
        obtain ⟨A8, p3⟩ : ∃ A, Hid (rotr 19 X2 = A) := ⟨_, Lib.hid rfl⟩
        obtain ⟨A9, p4⟩ : ∃ A, Hid (rotr 61 X2 = A) := ⟨_, Lib.hid rfl⟩
        obtain ⟨A10, q6⟩ : ∃ A, Hid (A8 ^^^ A9 = A) := ⟨_, Lib.hid rfl⟩
        obtain ⟨A11, q7⟩ : ∃ A, Hid (UInt64.ofNat (X2.toNat / 2 ^ 6) = A) := ⟨_, Lib.hid rfl⟩
        obtain ⟨A12, q8⟩ : ∃ A, Hid (A10 ^^^ A11 = A) := ⟨_, Lib.hid rfl⟩
        obtain ⟨A13, q9⟩ : ∃ A, Hid (A7 + A12 = A) := ⟨_, Lib.hid rfl⟩
        have HNW := Lib.hid (show nextW p t (sch p t) = A13 by rw [HN.out, shf3, shf3, p1.out, p2.out, p3.out, p4.out, q2.out, q7.out, q1.out, q3.out, q4.out, q5.out, q6.out, q8.out, q9.out])
        clear HN
        have HWD := Lib.hid HW.out.drew
        go_wp2_with fail
        have hR := Sm.stays
        refine reg_start (Sm) follows_mixed ?_
        refine reg_take (v := .int .i64 ((t : Nat) : Int)) hR 0 rfl (by kernel_rfl) (by kernel_rfl) (by kernel_rfl) (fun _ _ _ h => h) (by rfl) ?_ ?_
        · intro W hW; go_simp; try with_reducible rfl
        try simp only [Act.put, List.getElem_toArray, List.getElem_cons_succ, List.getElem_cons_zero, List.setIfInBounds_toArray, List.set_cons_zero, List.set_cons_succ]
        refine reg_take (v := .int .i64 ((t - 15 : Nat) : Int)) hR 1 rfl (by kernel_rfl) (by kernel_rfl) (by kernel_rfl) (fun _ _ _ h => h) (by rfl) ?_ ?_
        · intro W hW; go_simp; simp only [e15.out]
        try simp only [Act.put, List.getElem_toArray, List.getElem_cons_succ, List.getElem_cons_zero, List.setIfInBounds_toArray, List.set_cons_zero, List.set_cons_succ]
        refine reg_take (v := .pointer (some ⟨gw, t - 15, none⟩)) hR 2 rfl (by kernel_rfl) (by kernel_rfl) (by kernel_rfl) (fun _ _ _ h => h) (by rfl) ?_ ?_
        · intro W hW; exact exec_at64 97 _ _ rfl Tryd.underlying97 rfl rfl (by omega)
        try simp only [Act.put, List.getElem_toArray, List.getElem_cons_succ, List.getElem_cons_zero, List.setIfInBounds_toArray, List.set_cons_zero, List.set_cons_succ]
        refine reg_take (v := .int .u64 (X15.toNat : Int)) hR 3 rfl (by kernel_rfl) (by kernel_rfl) (by kernel_rfl) (fun _ _ _ h => h) (by rfl) ?_ ?_
        · intro W hW; exact exec_load_cell 78 _ rfl Tryd.isAgg78 rfl (by rw [hW]; exact HWD.out.cell HL15.out)
        try simp only [Act.put, List.getElem_toArray, List.getElem_cons_succ, List.getElem_cons_zero, List.setIfInBounds_toArray, List.set_cons_zero, List.set_cons_succ]
        refine reg_take (v := .int .i64 ((t : Nat) : Int)) hR 4 rfl (by kernel_rfl) (by kernel_rfl) (by kernel_rfl) (fun _ _ _ h => h) (by rfl) ?_ ?_
        · intro W hW; go_simp; try with_reducible rfl
        try simp only [Act.put, List.getElem_toArray, List.getElem_cons_succ, List.getElem_cons_zero, List.setIfInBounds_toArray, List.set_cons_zero, List.set_cons_succ]
        refine reg_take (v := .int .i64 ((t - 2 : Nat) : Int)) hR 5 rfl (by kernel_rfl) (by kernel_rfl) (by kernel_rfl) (fun _ _ _ h => h) (by rfl) ?_ ?_
        · intro W hW; go_simp; simp only [e2.out]
        try simp only [Act.put, List.getElem_toArray, List.getElem_cons_succ, List.getElem_cons_zero, List.setIfInBounds_toArray, List.set_cons_zero, List.set_cons_succ]
        refine reg_take (v := .pointer (some ⟨gw, t - 2, none⟩)) hR 6 rfl (by kernel_rfl) (by kernel_rfl) (by kernel_rfl) (fun _ _ _ h => h) (by rfl) ?_ ?_
        · intro W hW; exact exec_at64 97 _ _ rfl Tryd.underlying97 rfl rfl (by omega)
        try simp only [Act.put, List.getElem_toArray, List.getElem_cons_succ, List.getElem_cons_zero, List.setIfInBounds_toArray, List.set_cons_zero, List.set_cons_succ]
        refine reg_take (v := .int .u64 (X2.toNat : Int)) hR 7 rfl (by kernel_rfl) (by kernel_rfl) (by kernel_rfl) (fun _ _ _ h => h) (by rfl) ?_ ?_
        · intro W hW; exact exec_load_cell 78 _ rfl Tryd.isAgg78 rfl (by rw [hW]; exact HWD.out.cell HL2.out)
        try simp only [Act.put, List.getElem_toArray, List.getElem_cons_succ, List.getElem_cons_zero, List.setIfInBounds_toArray, List.set_cons_zero, List.set_cons_succ]
        refine reg_take (v := .int .u64 (X15.toNat : Int)) hR 8 rfl (by kernel_rfl) (by kernel_rfl) (by kernel_rfl) (fun _ _ _ h => h) (by rfl) ?_ ?_
        · intro W hW; go_simp; try with_reducible rfl
        try simp only [Act.put, List.getElem_toArray, List.getElem_cons_succ, List.getElem_cons_zero, List.setIfInBounds_toArray, List.set_cons_zero, List.set_cons_succ]
        refine reg_take (v := .int .u64 (X2.toNat : Int)) hR 9 rfl (by kernel_rfl) (by kernel_rfl) (by kernel_rfl) (fun _ _ _ h => h) (by rfl) ?_ ?_
        · intro W hW; go_simp; try with_reducible rfl
        try simp only [Act.put, List.getElem_toArray, List.getElem_cons_succ, List.getElem_cons_zero, List.setIfInBounds_toArray, List.set_cons_zero, List.set_cons_succ]
        refine reg_done (by kernel_rfl) ?_ _
        have HS1 := Lib.hid HS.out.drew
        have HZ1 := Lib.hid HZ.out.drew
        have HK1 := Lib.hid HK.out.drew
        have HW1 := Lib.hid HW.out.drew
        have HB1 := Lib.hid HB.out.drew
        clear HS HZ HK HW HB HWD hR
        generalize wr.drew = wd at HS1 HZ1 HK1 HW1 HB1 ⊢
        have HWE := Lib.hid HW1.out.drew
        go_wp2_with fail
        have hR := Kc.stays (gw) t
        refine reg_start (Kc (gw) t) follows_mixed ?_
        refine reg_take (v := .int .i64 ((t : Nat) : Int)) hR 0 rfl (by kernel_rfl) (by kernel_rfl) (by kernel_rfl) (fun _ _ _ h => h) (by rfl) ?_ ?_
        · intro W hW; go_simp; try with_reducible rfl
        try simp only [Act.put, List.getElem_toArray, List.getElem_cons_succ, List.getElem_cons_zero, List.setIfInBounds_toArray, List.set_cons_zero, List.set_cons_succ]
        refine reg_take (v := .int .i64 ((t : Nat) : Int)) hR 1 rfl (by kernel_rfl) (by kernel_rfl) (by kernel_rfl) (fun _ _ _ h => h) (by rfl) ?_ ?_
        · intro W hW; go_simp; try with_reducible rfl
        try simp only [Act.put, List.getElem_toArray, List.getElem_cons_succ, List.getElem_cons_zero, List.setIfInBounds_toArray, List.set_cons_zero, List.set_cons_succ]
        refine reg_take (v := .int .i64 ((t - 16 : Nat) : Int)) hR 2 rfl (by kernel_rfl) (by kernel_rfl) (by kernel_rfl) (fun _ _ _ h => h) (by rfl) ?_ ?_
        · intro W hW; go_simp; simp only [e16.out]
        try simp only [Act.put, List.getElem_toArray, List.getElem_cons_succ, List.getElem_cons_zero, List.setIfInBounds_toArray, List.set_cons_zero, List.set_cons_succ]
        refine reg_take (v := .pointer (some ⟨gw, t - 16, none⟩)) hR 3 rfl (by kernel_rfl) (by kernel_rfl) (by kernel_rfl) (fun _ _ _ h => h) (by rfl) ?_ ?_
        · intro W hW; exact exec_at64 97 _ _ rfl Tryd.underlying97 rfl rfl (by omega)
        try simp only [Act.put, List.getElem_toArray, List.getElem_cons_succ, List.getElem_cons_zero, List.setIfInBounds_toArray, List.set_cons_zero, List.set_cons_succ]
        refine reg_take (v := .int .u64 (X16.toNat : Int)) hR 4 rfl (by kernel_rfl) (by kernel_rfl) (by kernel_rfl) (fun _ _ _ h => h) (by rfl) ?_ ?_
        · intro W hW; exact exec_load_cell 78 _ rfl Tryd.isAgg78 rfl (hW.read HWE.out (by omega) HL16.out)
        try simp only [Act.put, List.getElem_toArray, List.getElem_cons_succ, List.getElem_cons_zero, List.setIfInBounds_toArray, List.set_cons_zero, List.set_cons_succ]
        refine reg_take (v := .int .u64 (X15.toNat : Int)) hR 5 rfl (by kernel_rfl) (by kernel_rfl) (by kernel_rfl) (fun _ _ _ h => h) (by rfl) ?_ ?_
        · intro W hW; go_simp; try with_reducible rfl
        try simp only [Act.put, List.getElem_toArray, List.getElem_cons_succ, List.getElem_cons_zero, List.setIfInBounds_toArray, List.set_cons_zero, List.set_cons_succ]
        refine reg_take (v := .int .u64 (X15.toNat : Int)) hR 7 rfl (by kernel_rfl) (by kernel_rfl) (by kernel_rfl) (fun _ _ _ h => h) (by rfl) ?_ ?_
        · intro W hW; go_simp; try with_reducible rfl
        try simp only [Act.put, List.getElem_toArray, List.getElem_cons_succ, List.getElem_cons_zero, List.setIfInBounds_toArray, List.set_cons_zero, List.set_cons_succ]
        refine reg_take (v := .int .u64 (X15.toNat : Int)) hR 10 rfl (by kernel_rfl) (by kernel_rfl) (by kernel_rfl) (fun _ _ _ h => h) (by rfl) ?_ ?_
        · intro W hW; go_simp; try with_reducible rfl
        try simp only [Act.put, List.getElem_toArray, List.getElem_cons_succ, List.getElem_cons_zero, List.setIfInBounds_toArray, List.set_cons_zero, List.set_cons_succ]
        refine reg_take (v := .int .u64 (A4.toNat : Int)) hR 11 rfl (by kernel_rfl) (by kernel_rfl) (by kernel_rfl) (fun _ _ _ h => h) (by rfl) ?_ ?_
        · intro W hW; exact exec_shr7 _ rfl q2.out rfl
        try simp only [Act.put, List.getElem_toArray, List.getElem_cons_succ, List.getElem_cons_zero, List.setIfInBounds_toArray, List.set_cons_zero, List.set_cons_succ]
        refine reg_take (v := .int .i64 ((t : Nat) : Int)) hR 14 rfl (by kernel_rfl) (by kernel_rfl) (by kernel_rfl) (fun _ _ _ h => h) (by rfl) ?_ ?_
        · intro W hW; go_simp; try with_reducible rfl
        try simp only [Act.put, List.getElem_toArray, List.getElem_cons_succ, List.getElem_cons_zero, List.setIfInBounds_toArray, List.set_cons_zero, List.set_cons_succ]
        refine reg_take (v := .int .i64 ((t - 7 : Nat) : Int)) hR 15 rfl (by kernel_rfl) (by kernel_rfl) (by kernel_rfl) (fun _ _ _ h => h) (by rfl) ?_ ?_
        · intro W hW; go_simp; simp only [e7.out]
        try simp only [Act.put, List.getElem_toArray, List.getElem_cons_succ, List.getElem_cons_zero, List.setIfInBounds_toArray, List.set_cons_zero, List.set_cons_succ]
        refine reg_take (v := .pointer (some ⟨gw, t - 7, none⟩)) hR 16 rfl (by kernel_rfl) (by kernel_rfl) (by kernel_rfl) (fun _ _ _ h => h) (by rfl) ?_ ?_
        · intro W hW; exact exec_at64 97 _ _ rfl Tryd.underlying97 rfl rfl (by omega)
        try simp only [Act.put, List.getElem_toArray, List.getElem_cons_succ, List.getElem_cons_zero, List.setIfInBounds_toArray, List.set_cons_zero, List.set_cons_succ]
        refine reg_take (v := .int .u64 (X7.toNat : Int)) hR 17 rfl (by kernel_rfl) (by kernel_rfl) (by kernel_rfl) (fun _ _ _ h => h) (by rfl) ?_ ?_
        · intro W hW; exact exec_load_cell 78 _ rfl Tryd.isAgg78 rfl (hW.read HWE.out (by omega) HL7.out)
        try simp only [Act.put, List.getElem_toArray, List.getElem_cons_succ, List.getElem_cons_zero, List.setIfInBounds_toArray, List.set_cons_zero, List.set_cons_succ]
        refine reg_take (v := .int .u64 (X2.toNat : Int)) hR 19 rfl (by kernel_rfl) (by kernel_rfl) (by kernel_rfl) (fun _ _ _ h => h) (by rfl) ?_ ?_
        · intro W hW; go_simp; try with_reducible rfl
        try simp only [Act.put, List.getElem_toArray, List.getElem_cons_succ, List.getElem_cons_zero, List.setIfInBounds_toArray, List.set_cons_zero, List.set_cons_succ]
        refine reg_take (v := .int .u64 (X2.toNat : Int)) hR 21 rfl (by kernel_rfl) (by kernel_rfl) (by kernel_rfl) (fun _ _ _ h => h) (by rfl) ?_ ?_
        · intro W hW; go_simp; try with_reducible rfl
        try simp only [Act.put, List.getElem_toArray, List.getElem_cons_succ, List.getElem_cons_zero, List.setIfInBounds_toArray, List.set_cons_zero, List.set_cons_succ]
        refine reg_take (v := .int .u64 (X2.toNat : Int)) hR 24 rfl (by kernel_rfl) (by kernel_rfl) (by kernel_rfl) (fun _ _ _ h => h) (by rfl) ?_ ?_
        · intro W hW; go_simp; try with_reducible rfl
        try simp only [Act.put, List.getElem_toArray, List.getElem_cons_succ, List.getElem_cons_zero, List.setIfInBounds_toArray, List.set_cons_zero, List.set_cons_succ]
        refine reg_take (v := .int .u64 (A11.toNat : Int)) hR 25 rfl (by kernel_rfl) (by kernel_rfl) (by kernel_rfl) (fun _ _ _ h => h) (by rfl) ?_ ?_
        · intro W hW; exact exec_shr6 _ rfl q7.out rfl
        try simp only [Act.put, List.getElem_toArray, List.getElem_cons_succ, List.getElem_cons_zero, List.setIfInBounds_toArray, List.set_cons_zero, List.set_cons_succ]
        refine reg_step hR 6 (by kernel_rfl) rfl fun K hK => ?_
        try simp only [Act.put, List.getElem_toArray, List.getElem_cons_succ, List.getElem_cons_zero, List.setIfInBounds_toArray, List.set_cons_zero, List.set_cons_succ]
        rw [if_pos (by rfl)]
        go_simp
        refine (Qrot_any X15 1 (by decide) (by decide) _).mono ?_; rintro e w9 ⟨rfl, hw9⟩; subst w9
        rw [p1.out]
        refine hK.out _ _ ((Kc.stays _ _).refl _) ?_
        clear hK K
        try simp only [Act.put, List.getElem_toArray, List.getElem_cons_succ, List.getElem_cons_zero, List.setIfInBounds_toArray, List.set_cons_zero, List.set_cons_succ]
        refine reg_step hR 8 (by kernel_rfl) rfl fun K hK => ?_
        try simp only [Act.put, List.getElem_toArray, List.getElem_cons_succ, List.getElem_cons_zero, List.setIfInBounds_toArray, List.set_cons_zero, List.set_cons_succ]
        rw [if_pos (by rfl)]
        go_simp
        refine (Qrot_any X15 8 (by decide) (by decide) _).mono ?_; rintro e w9 ⟨rfl, hw9⟩; subst w9
        rw [p2.out]
        refine hK.out _ _ ((Kc.stays _ _).refl _) ?_
        clear hK K
        try simp only [Act.put, List.getElem_toArray, List.getElem_cons_succ, List.getElem_cons_zero, List.setIfInBounds_toArray, List.set_cons_zero, List.set_cons_succ]
        refine reg_take (v := .int .u64 (A3.toNat : Int)) hR 9 rfl (by kernel_rfl) (by kernel_rfl) (by kernel_rfl) (fun _ _ _ h => h) (by rfl) ?_ ?_
        · intro W hW; exact exec_xor64 _ _ rfl q1.out rfl rfl
        try simp only [Act.put, List.getElem_toArray, List.getElem_cons_succ, List.getElem_cons_zero, List.setIfInBounds_toArray, List.set_cons_zero, List.set_cons_succ]
        refine reg_take (v := .int .u64 (A5.toNat : Int)) hR 12 rfl (by kernel_rfl) (by kernel_rfl) (by kernel_rfl) (fun _ _ _ h => h) (by rfl) ?_ ?_
        · intro W hW; exact exec_xor64 _ _ rfl q3.out rfl rfl
        try simp only [Act.put, List.getElem_toArray, List.getElem_cons_succ, List.getElem_cons_zero, List.setIfInBounds_toArray, List.set_cons_zero, List.set_cons_succ]
        refine reg_take (v := .int .u64 (A6.toNat : Int)) hR 13 rfl (by kernel_rfl) (by kernel_rfl) (by kernel_rfl) (fun _ _ _ h => h) (by rfl) ?_ ?_
        · intro W hW; exact exec_add64 _ _ rfl q4.out rfl rfl
        try simp only [Act.put, List.getElem_toArray, List.getElem_cons_succ, List.getElem_cons_zero, List.setIfInBounds_toArray, List.set_cons_zero, List.set_cons_succ]
        refine reg_take (v := .int .u64 (A7.toNat : Int)) hR 18 rfl (by kernel_rfl) (by kernel_rfl) (by kernel_rfl) (fun _ _ _ h => h) (by rfl) ?_ ?_
        · intro W hW; exact exec_add64 _ _ rfl q5.out rfl rfl
        try simp only [Act.put, List.getElem_toArray, List.getElem_cons_succ, List.getElem_cons_zero, List.setIfInBounds_toArray, List.set_cons_zero, List.set_cons_succ]
        refine reg_step hR 20 (by kernel_rfl) rfl fun K hK => ?_
        try simp only [Act.put, List.getElem_toArray, List.getElem_cons_succ, List.getElem_cons_zero, List.setIfInBounds_toArray, List.set_cons_zero, List.set_cons_succ]
        rw [if_pos (by rfl)]
        go_simp
        refine (Qrot_any X2 19 (by decide) (by decide) _).mono ?_; rintro e w9 ⟨rfl, hw9⟩; subst w9
        rw [p3.out]
        refine hK.out _ _ ((Kc.stays _ _).refl _) ?_
        clear hK K
        try simp only [Act.put, List.getElem_toArray, List.getElem_cons_succ, List.getElem_cons_zero, List.setIfInBounds_toArray, List.set_cons_zero, List.set_cons_succ]
        refine reg_step hR 22 (by kernel_rfl) rfl fun K hK => ?_
        try simp only [Act.put, List.getElem_toArray, List.getElem_cons_succ, List.getElem_cons_zero, List.setIfInBounds_toArray, List.set_cons_zero, List.set_cons_succ]
        rw [if_pos (by rfl)]
        go_simp
        refine (Qrot_any X2 61 (by decide) (by decide) _).mono ?_; rintro e w9 ⟨rfl, hw9⟩; subst w9
        rw [p4.out]
        refine hK.out _ _ ((Kc.stays _ _).refl _) ?_
        clear hK K
        try simp only [Act.put, List.getElem_toArray, List.getElem_cons_succ, List.getElem_cons_zero, List.setIfInBounds_toArray, List.set_cons_zero, List.set_cons_succ]
        refine reg_take (v := .int .u64 (A10.toNat : Int)) hR 23 rfl (by kernel_rfl) (by kernel_rfl) (by kernel_rfl) (fun _ _ _ h => h) (by rfl) ?_ ?_
        · intro W hW; exact exec_xor64 _ _ rfl q6.out rfl rfl
        try simp only [Act.put, List.getElem_toArray, List.getElem_cons_succ, List.getElem_cons_zero, List.setIfInBounds_toArray, List.set_cons_zero, List.set_cons_succ]
        refine reg_take (v := .int .u64 (A12.toNat : Int)) hR 26 rfl (by kernel_rfl) (by kernel_rfl) (by kernel_rfl) (fun _ _ _ h => h) (by rfl) ?_ ?_
        · intro W hW; exact exec_xor64 _ _ rfl q8.out rfl rfl
        try simp only [Act.put, List.getElem_toArray, List.getElem_cons_succ, List.getElem_cons_zero, List.setIfInBounds_toArray, List.set_cons_zero, List.set_cons_succ]
        refine reg_take (v := .int .u64 (A13.toNat : Int)) hR 27 rfl (by kernel_rfl) (by kernel_rfl) (by kernel_rfl) (fun _ _ _ h => h) (by rfl) ?_ ?_
        · intro W hW; exact exec_add64 _ _ rfl q9.out rfl rfl
        try simp only [Act.put, List.getElem_toArray, List.getElem_cons_succ, List.getElem_cons_zero, List.setIfInBounds_toArray, List.set_cons_zero, List.set_cons_succ]
        refine reg_take (v := .pointer (some ⟨gw, t, none⟩)) hR 28 rfl (by kernel_rfl) (by kernel_rfl) (by kernel_rfl) (fun _ _ _ h => h) (by rfl) ?_ ?_
        · intro W hW; exact exec_at64 97 _ _ rfl Tryd.underlying97 rfl rfl (by omega)
        try simp only [Act.put, List.getElem_toArray, List.getElem_cons_succ, List.getElem_cons_zero, List.setIfInBounds_toArray, List.set_cons_zero, List.set_cons_succ]
        refine reg_step hR 29 (by kernel_rfl) rfl fun K hK => ?_
        try simp only [Act.put, List.getElem_toArray, List.getElem_cons_succ, List.getElem_cons_zero, List.setIfInBounds_toArray, List.set_cons_zero, List.set_cons_succ]
        rw [if_pos (by rfl)]
        refine wp_store_cell _ _ rfl rfl rfl HWE.out (by rw [HLW.out]; omega) ?_
        refine hK.out _ _ (Kc.of_set _ _) ?_
        clear hK K
        try simp only [Act.put, List.getElem_toArray, List.getElem_cons_succ, List.getElem_cons_zero, List.setIfInBounds_toArray, List.set_cons_zero, List.set_cons_succ]
        refine reg_done (by kernel_rfl) ?_ _
        have HS5 := Lib.hid (HS1.out.drew.setCell_ne (show w.heap.size ≠ gw by omega) t (B64 A13))
        have HZ5 := Lib.hid (HZ1.out.drew.setCell_ne (show w.heap.size + 1 ≠ gw by omega) t (B64 A13))
        have HK5 := Lib.hid (HK1.out.drew.setCell_ne (show gk ≠ gw by omega) t (B64 A13))
        have hw5 := HW1.out.drew.setCell t (B64 A13)
        rw [← HNW.out, HX.out hlt, HNW.out] at hw5
        have HW5 := Lib.hid hw5
        have HB5 := Lib.hid (bl_setCell (w0 := w) HB1.out.drew (show w.heap.size ≤ gw by omega) t (B64 A13))
        unfold B64 at HS5 HZ5 HK5 HW5 HB5
        clear hw5 HS1 HZ1 HK1 HW1 HB1 HWE
        go_wp2
        go_roundw
        case rel => exact ⟨t + 1, by omega, by go_num, HS5, HZ5, HK5, HW5, HB5⟩
        case measure => simp [intOf]; omega
    · obtain rfl : t = 80 := by omega
      have hw80 := HW.out
      rw [show schZ p 80 = cs64 (sch p 80) by simp [schZ]] at hw80
      have HW80 := Lib.hid hw80
      have hWl := sch_length p 80
      have HMX := Lib.hid (show mix KK st p = List.zipWith (· + ·) st (rounds KK (sch p 80) 80 (S8.of st)).list from rfl)
      have HLS := Lib.hid hs
      clear hw80 HW HX HLW hlt
      generalize sch p 80 = W at HW80 hWl HMX
      have HWL := Lib.hid hWl
      have HKKL := Lib.hid (show KK.length = 80 by decide +kernel)
      have HM0 : Hid ((rounds KK W 0 (S8.of st)).list = st) := Lib.hid (by obtain ⟨a, b, c, d, e, f, g, h, rfl⟩ := eight hs; rfl)
      have hwr := HB.out.size
      have hgwl := HW80.out.lt
      have HE5 := Lib.hid (Bk.new wr z38 87)
      have HG5 := Lib.hid (HE5.out.setRow (cs64 st))
      have HS5 := Lib.hid ((HS.out.old (.cells z38.toArray 87)).other (show w.heap.size ≠ wr.heap.size by have := HS.out.lt; omega) (cs64 st).toArray)
      have HZ5 := Lib.hid ((HZ.out.old (.cells z38.toArray 87)).other (show w.heap.size + 1 ≠ wr.heap.size by have := HZ.out.lt; omega) (cs64 st).toArray)
      have HK5 := Lib.hid ((HK.out.old (.cells z38.toArray 87)).other (show gk ≠ wr.heap.size by have := HK.out.lt; omega) (cs64 st).toArray)
      have HW5 := Lib.hid ((HW80.out.old (.cells z38.toArray 87)).other (show gw ≠ wr.heap.size by omega) (cs64 st).toArray)
      have HB5 := Lib.hid (bl_setRow (bl_alloc HB.out (.cells z38.toArray 87)) (show w.heap.size ≤ wr.heap.size from hwr) (cs64 st).toArray)
      go_wp2_with (first | (refine wpList_load_at rfl 87 _ rfl ⟨w.heap.size, 0, none⟩ rfl (cs64 st) _ HS.out.at_ Tryd.underlying87 rfl (by rw [HSL.out]; exact info38) ?_) | (refine wpList_alloc_z rfl 87 rfl z38 zero38 ?_) | (refine wpList_store_bk rfl 87 _ _ rfl wr.heap.size rfl (cs64 st) z38 rfl HE5.out (by rw [HSL.out]; exact info38) (by rw [HSL.out]; exact len_z38) (cs64_one _) ?_))
      clear HS HZ HK HW80 HB HE5
      generalize (wr.alloc (.cells z38.toArray 87)).setRow wr.heap.size (cs64 st).toArray = w5 at HG5 HS5 HZ5 HK5 HW5 HB5 ⊢
      obtain ⟨gs, hgs⟩ : ∃ g, g = wr.heap.size := ⟨_, rfl⟩
      rw [← hgs] at HG5 hgwl hwr ⊢
      clear hgs
      go_loopw [12] (fun vi wr => ∃ t : Nat, t ≤ 80 ∧ vi = .int .i64 (t : Int) ∧ Hid (Bk wr w.heap.size (cs64 st)) ∧ Hid (Bk wr (w.heap.size + 1) z38) ∧ Hid (Bk wr gk (cs64 KK)) ∧ Hid (Bk wr gw (cs64 W)) ∧ Hid (Bk wr gs (cs64 (rounds KK W t (S8.of st)).list)) ∧ Hid (Below w.heap.size w wr)) (fun vi _ => 80 - (intOf vi).toNat)
      case atStart => exact ⟨0, by omega, rfl, HS5, HZ5, HK5, HW5, Lib.hid (by rw [HM0.out]; exact HG5.out), HB5⟩
      case round =>
        clear HS5 HZ5 HK5 HW5 HG5 HB5
        obtain ⟨t, ht, rfl, HS, HZ, HK, HW, HG, HB⟩ := hrel
        by_cases hlt : t < 80
        · have HRD := Lib.hid (show rounds KK W (t + 1) (S8.of st) = round (KK.getD t 0) (W.getD t 0) (rounds KK W t (S8.of st)) from rfl)
          generalize rounds KK W t (S8.of st) = S at HG HRD
          obtain ⟨a, b, c, d, e, f, g, h⟩ := S
          have hk0 := HK.out.cell (cells64_at KK t (by rw [HKKL.out]; exact hlt))
          have hw0 := HW.out.cell (cells64_at W t (by rw [HWL.out]; exact hlt))
          generalize KK.getD t 0 = kt at hk0 HRD
          generalize W.getD t 0 = wt at hw0 HRD
          have HKT := Lib.hid (show wr.drew.drew.cell? ⟨gk, t, none⟩ = some (.int .u64 (kt.toNat : Int)) from hk0)
          have HWT := Lib.hid (show wr.drew.drew.cell? ⟨gw, t, none⟩ = some (.int .u64 (wt.toNat : Int)) from hw0)
          have hgd : Bk wr gs [B64 a, B64 b, B64 c, B64 d, B64 e, B64 f, B64 g, B64 h] := HG.out
          have HGD := Lib.hid hgd
          have HG1 := Lib.hid hgd.drew
          have HG2 := Lib.hid hgd.drew.drew
          have HG3 := Lib.hid hgd.drew.drew.drew
          clear hk0 hw0 hgd
          obtain ⟨E14, p1⟩ : ∃ A : UInt64, Hid (rotr 14 e = A) := ⟨_, Lib.hid rfl⟩
          obtain ⟨E18, p2⟩ : ∃ A : UInt64, Hid (rotr 18 e = A) := ⟨_, Lib.hid rfl⟩
          obtain ⟨E41, p3⟩ : ∃ A : UInt64, Hid (rotr 41 e = A) := ⟨_, Lib.hid rfl⟩
          obtain ⟨x1, q1⟩ : ∃ A : UInt64, Hid (E14 ^^^ E18 = A) := ⟨_, Lib.hid rfl⟩
          obtain ⟨x2, q2⟩ : ∃ A : UInt64, Hid (x1 ^^^ E41 = A) := ⟨_, Lib.hid rfl⟩
          obtain ⟨y1, q3⟩ : ∃ A : UInt64, Hid (h + x2 = A) := ⟨_, Lib.hid rfl⟩
          obtain ⟨z1, q4⟩ : ∃ A : UInt64, Hid (e &&& f = A) := ⟨_, Lib.hid rfl⟩
          obtain ⟨z2, q5⟩ : ∃ A : UInt64, Hid (~~~e = A) := ⟨_, Lib.hid rfl⟩
          obtain ⟨z3, q6⟩ : ∃ A : UInt64, Hid (z2 &&& g = A) := ⟨_, Lib.hid rfl⟩
          obtain ⟨z4, q7⟩ : ∃ A : UInt64, Hid (z1 ^^^ z3 = A) := ⟨_, Lib.hid rfl⟩
          obtain ⟨y2, q8⟩ : ∃ A : UInt64, Hid (y1 + z4 = A) := ⟨_, Lib.hid rfl⟩
          obtain ⟨y3, q9⟩ : ∃ A : UInt64, Hid (y2 + kt = A) := ⟨_, Lib.hid rfl⟩
          obtain ⟨T1, q10⟩ : ∃ A : UInt64, Hid (y3 + wt = A) := ⟨_, Lib.hid rfl⟩
          obtain ⟨F28, p4⟩ : ∃ A : UInt64, Hid (rotr 28 a = A) := ⟨_, Lib.hid rfl⟩
          obtain ⟨F34, p5⟩ : ∃ A : UInt64, Hid (rotr 34 a = A) := ⟨_, Lib.hid rfl⟩
          obtain ⟨F39, p6⟩ : ∃ A : UInt64, Hid (rotr 39 a = A) := ⟨_, Lib.hid rfl⟩
          obtain ⟨v1, r1⟩ : ∃ A : UInt64, Hid (F28 ^^^ F34 = A) := ⟨_, Lib.hid rfl⟩
          obtain ⟨v2, r2⟩ : ∃ A : UInt64, Hid (v1 ^^^ F39 = A) := ⟨_, Lib.hid rfl⟩
          obtain ⟨m1, r3⟩ : ∃ A : UInt64, Hid (a &&& b = A) := ⟨_, Lib.hid rfl⟩
          obtain ⟨m2, r4⟩ : ∃ A : UInt64, Hid (a &&& c = A) := ⟨_, Lib.hid rfl⟩
          obtain ⟨m3, r5⟩ : ∃ A : UInt64, Hid (m1 ^^^ m2 = A) := ⟨_, Lib.hid rfl⟩
          obtain ⟨m4, r6⟩ : ∃ A : UInt64, Hid (b &&& c = A) := ⟨_, Lib.hid rfl⟩
          obtain ⟨m5, r7⟩ : ∃ A : UInt64, Hid (m3 ^^^ m4 = A) := ⟨_, Lib.hid rfl⟩
          obtain ⟨T2, r8⟩ : ∃ A : UInt64, Hid (v2 + m5 = A) := ⟨_, Lib.hid rfl⟩
          have HRL := Lib.hid (show (rounds KK W (t + 1) (S8.of st)).list = [T1 + T2, a, b, c, d + T1, e, f, g] by
            rw [HRD.out, round, rot3, rot3, p1.out, p2.out, p3.out, p4.out, p5.out, p6.out]
            simp only [q1.out, q2.out, q3.out, q4.out, q5.out, q6.out, q7.out, q8.out, q9.out, q10.out, r1.out, r2.out, r3.out, r4.out, r5.out, r6.out, r7.out, r8.out, S8.list])
          clear HRD
          go_wp2_with fail
          have hR := Sm.stays
          refine reg_start (Sm) follows_mixed ?_
          refine reg_take (v := .pointer (some ⟨gs, 0, none⟩)) hR 0 rfl (by kernel_rfl) (by kernel_rfl) (by kernel_rfl) (fun _ _ _ h => h) (by rfl) ?_ ?_
          · intro W hW; exact exec_at64 (k := 0) 87 _ _ rfl Tryd.underlying87 rfl rfl (by omega)
          try simp only [Act.put, List.getElem_toArray, List.getElem_cons_succ, List.getElem_cons_zero, List.setIfInBounds_toArray, List.set_cons_zero, List.set_cons_succ]
          refine reg_take (v := .int .u64 (a.toNat : Int)) hR 1 rfl (by kernel_rfl) (by kernel_rfl) (by kernel_rfl) (fun _ _ _ h => h) (by rfl) ?_ ?_
          · intro W hW; exact exec_load_cell 78 _ rfl Tryd.isAgg78 rfl (by rw [hW]; exact HG1.out.cell rfl)
          try simp only [Act.put, List.getElem_toArray, List.getElem_cons_succ, List.getElem_cons_zero, List.setIfInBounds_toArray, List.set_cons_zero, List.set_cons_succ]
          refine reg_take (v := .pointer (some ⟨gs, 4, none⟩)) hR 2 rfl (by kernel_rfl) (by kernel_rfl) (by kernel_rfl) (fun _ _ _ h => h) (by rfl) ?_ ?_
          · intro W hW; exact exec_at64 (k := 4) 87 _ _ rfl Tryd.underlying87 rfl rfl (by omega)
          try simp only [Act.put, List.getElem_toArray, List.getElem_cons_succ, List.getElem_cons_zero, List.setIfInBounds_toArray, List.set_cons_zero, List.set_cons_succ]
          refine reg_take (v := .int .u64 (e.toNat : Int)) hR 3 rfl (by kernel_rfl) (by kernel_rfl) (by kernel_rfl) (fun _ _ _ h => h) (by rfl) ?_ ?_
          · intro W hW; exact exec_load_cell 78 _ rfl Tryd.isAgg78 rfl (by rw [hW]; exact HG1.out.cell rfl)
          try simp only [Act.put, List.getElem_toArray, List.getElem_cons_succ, List.getElem_cons_zero, List.setIfInBounds_toArray, List.set_cons_zero, List.set_cons_succ]
          refine reg_take (v := .int .u64 (a.toNat : Int)) hR 4 rfl (by kernel_rfl) (by kernel_rfl) (by kernel_rfl) (fun _ _ _ h => h) (by rfl) ?_ ?_
          · intro W hW; go_simp; try with_reducible rfl
          try simp only [Act.put, List.getElem_toArray, List.getElem_cons_succ, List.getElem_cons_zero, List.setIfInBounds_toArray, List.set_cons_zero, List.set_cons_succ]
          refine reg_take (v := .int .u64 (e.toNat : Int)) hR 5 rfl (by kernel_rfl) (by kernel_rfl) (by kernel_rfl) (fun _ _ _ h => h) (by rfl) ?_ ?_
          · intro W hW; go_simp; try with_reducible rfl
          try simp only [Act.put, List.getElem_toArray, List.getElem_cons_succ, List.getElem_cons_zero, List.setIfInBounds_toArray, List.set_cons_zero, List.set_cons_succ]
          refine reg_done (by kernel_rfl) ?_ _
          go_wp2_with fail
          have hR := Sm.stays
          refine reg_start (Sm) follows_mixed ?_
          refine reg_take (v := .pointer (some ⟨gs, 7, none⟩)) hR 0 rfl (by kernel_rfl) (by kernel_rfl) (by kernel_rfl) (fun _ _ _ h => h) (by rfl) ?_ ?_
          · intro W hW; exact exec_at64 (k := 7) 87 _ _ rfl Tryd.underlying87 rfl rfl (by omega)
          try simp only [Act.put, List.getElem_toArray, List.getElem_cons_succ, List.getElem_cons_zero, List.setIfInBounds_toArray, List.set_cons_zero, List.set_cons_succ]
          refine reg_take (v := .int .u64 (h.toNat : Int)) hR 1 rfl (by kernel_rfl) (by kernel_rfl) (by kernel_rfl) (fun _ _ _ h => h) (by rfl) ?_ ?_
          · intro W hW; exact exec_load_cell 78 _ rfl Tryd.isAgg78 rfl (by rw [hW]; exact HG2.out.cell rfl)
          try simp only [Act.put, List.getElem_toArray, List.getElem_cons_succ, List.getElem_cons_zero, List.setIfInBounds_toArray, List.set_cons_zero, List.set_cons_succ]
          refine reg_take (v := .int .u64 (e.toNat : Int)) hR 2 rfl (by kernel_rfl) (by kernel_rfl) (by kernel_rfl) (fun _ _ _ h => h) (by rfl) ?_ ?_
          · intro W hW; go_simp; try with_reducible rfl
          try simp only [Act.put, List.getElem_toArray, List.getElem_cons_succ, List.getElem_cons_zero, List.setIfInBounds_toArray, List.set_cons_zero, List.set_cons_succ]
          refine reg_take (v := .int .u64 (e.toNat : Int)) hR 4 rfl (by kernel_rfl) (by kernel_rfl) (by kernel_rfl) (fun _ _ _ h => h) (by rfl) ?_ ?_
          · intro W hW; go_simp; try with_reducible rfl
          try simp only [Act.put, List.getElem_toArray, List.getElem_cons_succ, List.getElem_cons_zero, List.setIfInBounds_toArray, List.set_cons_zero, List.set_cons_succ]
          refine reg_take (v := .int .u64 (e.toNat : Int)) hR 7 rfl (by kernel_rfl) (by kernel_rfl) (by kernel_rfl) (fun _ _ _ h => h) (by rfl) ?_ ?_
          · intro W hW; go_simp; try with_reducible rfl
          try simp only [Act.put, List.getElem_toArray, List.getElem_cons_succ, List.getElem_cons_zero, List.setIfInBounds_toArray, List.set_cons_zero, List.set_cons_succ]
          refine reg_take (v := .int .u64 (e.toNat : Int)) hR 11 rfl (by kernel_rfl) (by kernel_rfl) (by kernel_rfl) (fun _ _ _ h => h) (by rfl) ?_ ?_
          · intro W hW; go_simp; try with_reducible rfl
          try simp only [Act.put, List.getElem_toArray, List.getElem_cons_succ, List.getElem_cons_zero, List.setIfInBounds_toArray, List.set_cons_zero, List.set_cons_succ]
          refine reg_take (v := .pointer (some ⟨gs, 5, none⟩)) hR 12 rfl (by kernel_rfl) (by kernel_rfl) (by kernel_rfl) (fun _ _ _ h => h) (by rfl) ?_ ?_
          · intro W hW; exact exec_at64 (k := 5) 87 _ _ rfl Tryd.underlying87 rfl rfl (by omega)
          try simp only [Act.put, List.getElem_toArray, List.getElem_cons_succ, List.getElem_cons_zero, List.setIfInBounds_toArray, List.set_cons_zero, List.set_cons_succ]
          refine reg_take (v := .int .u64 (f.toNat : Int)) hR 13 rfl (by kernel_rfl) (by kernel_rfl) (by kernel_rfl) (fun _ _ _ h => h) (by rfl) ?_ ?_
          · intro W hW; exact exec_load_cell 78 _ rfl Tryd.isAgg78 rfl (by rw [hW]; exact HG2.out.cell rfl)
          try simp only [Act.put, List.getElem_toArray, List.getElem_cons_succ, List.getElem_cons_zero, List.setIfInBounds_toArray, List.set_cons_zero, List.set_cons_succ]
          refine reg_take (v := .int .u64 (z1.toNat : Int)) hR 14 rfl (by kernel_rfl) (by kernel_rfl) (by kernel_rfl) (fun _ _ _ h => h) (by rfl) ?_ ?_
          · intro W hW; exact exec_and64 _ _ rfl q4.out rfl rfl
          try simp only [Act.put, List.getElem_toArray, List.getElem_cons_succ, List.getElem_cons_zero, List.setIfInBounds_toArray, List.set_cons_zero, List.set_cons_succ]
          refine reg_take (v := .int .u64 (e.toNat : Int)) hR 15 rfl (by kernel_rfl) (by kernel_rfl) (by kernel_rfl) (fun _ _ _ h => h) (by rfl) ?_ ?_
          · intro W hW; go_simp; try with_reducible rfl
          try simp only [Act.put, List.getElem_toArray, List.getElem_cons_succ, List.getElem_cons_zero, List.setIfInBounds_toArray, List.set_cons_zero, List.set_cons_succ]
          refine reg_take (v := .int .u64 (z2.toNat : Int)) hR 16 rfl (by kernel_rfl) (by kernel_rfl) (by kernel_rfl) (fun _ _ _ h => h) (by rfl) ?_ ?_
          · intro W hW; exact exec_not64 _ rfl q5.out rfl
          try simp only [Act.put, List.getElem_toArray, List.getElem_cons_succ, List.getElem_cons_zero, List.setIfInBounds_toArray, List.set_cons_zero, List.set_cons_succ]
          refine reg_take (v := .pointer (some ⟨gs, 6, none⟩)) hR 17 rfl (by kernel_rfl) (by kernel_rfl) (by kernel_rfl) (fun _ _ _ h => h) (by rfl) ?_ ?_
          · intro W hW; exact exec_at64 (k := 6) 87 _ _ rfl Tryd.underlying87 rfl rfl (by omega)
          try simp only [Act.put, List.getElem_toArray, List.getElem_cons_succ, List.getElem_cons_zero, List.setIfInBounds_toArray, List.set_cons_zero, List.set_cons_succ]
          refine reg_take (v := .int .u64 (g.toNat : Int)) hR 18 rfl (by kernel_rfl) (by kernel_rfl) (by kernel_rfl) (fun _ _ _ h => h) (by rfl) ?_ ?_
          · intro W hW; exact exec_load_cell 78 _ rfl Tryd.isAgg78 rfl (by rw [hW]; exact HG2.out.cell rfl)
          try simp only [Act.put, List.getElem_toArray, List.getElem_cons_succ, List.getElem_cons_zero, List.setIfInBounds_toArray, List.set_cons_zero, List.set_cons_succ]
          refine reg_take (v := .int .u64 (z3.toNat : Int)) hR 19 rfl (by kernel_rfl) (by kernel_rfl) (by kernel_rfl) (fun _ _ _ h => h) (by rfl) ?_ ?_
          · intro W hW; exact exec_and64 _ _ rfl q6.out rfl rfl
          try simp only [Act.put, List.getElem_toArray, List.getElem_cons_succ, List.getElem_cons_zero, List.setIfInBounds_toArray, List.set_cons_zero, List.set_cons_succ]
          refine reg_take (v := .int .u64 (z4.toNat : Int)) hR 20 rfl (by kernel_rfl) (by kernel_rfl) (by kernel_rfl) (fun _ _ _ h => h) (by rfl) ?_ ?_
          · intro W hW; exact exec_xor64 _ _ rfl q7.out rfl rfl
          try simp only [Act.put, List.getElem_toArray, List.getElem_cons_succ, List.getElem_cons_zero, List.setIfInBounds_toArray, List.set_cons_zero, List.set_cons_succ]
          refine reg_take (v := .int .i64 ((t : Nat) : Int)) hR 22 rfl (by kernel_rfl) (by kernel_rfl) (by kernel_rfl) (fun _ _ _ h => h) (by rfl) ?_ ?_
          · intro W hW; go_simp; try with_reducible rfl
          try simp only [Act.put, List.getElem_toArray, List.getElem_cons_succ, List.getElem_cons_zero, List.setIfInBounds_toArray, List.set_cons_zero, List.set_cons_succ]
          refine reg_take (v := .pointer (some ⟨gk, t, none⟩)) hR 23 rfl (by kernel_rfl) (by kernel_rfl) (by kernel_rfl) (fun _ _ _ h => h) (by rfl) ?_ ?_
          · intro W hW; exact exec_at64 97 _ _ rfl Tryd.underlying97 rfl rfl (by omega)
          try simp only [Act.put, List.getElem_toArray, List.getElem_cons_succ, List.getElem_cons_zero, List.setIfInBounds_toArray, List.set_cons_zero, List.set_cons_succ]
          refine reg_take (v := .int .u64 (kt.toNat : Int)) hR 24 rfl (by kernel_rfl) (by kernel_rfl) (by kernel_rfl) (fun _ _ _ h => h) (by rfl) ?_ ?_
          · intro W hW; exact exec_load_cell 78 _ rfl Tryd.isAgg78 rfl (by rw [hW]; exact HKT.out)
          try simp only [Act.put, List.getElem_toArray, List.getElem_cons_succ, List.getElem_cons_zero, List.setIfInBounds_toArray, List.set_cons_zero, List.set_cons_succ]
          refine reg_take (v := .int .i64 ((t : Nat) : Int)) hR 26 rfl (by kernel_rfl) (by kernel_rfl) (by kernel_rfl) (fun _ _ _ h => h) (by rfl) ?_ ?_
          · intro W hW; go_simp; try with_reducible rfl
          try simp only [Act.put, List.getElem_toArray, List.getElem_cons_succ, List.getElem_cons_zero, List.setIfInBounds_toArray, List.set_cons_zero, List.set_cons_succ]
          refine reg_take (v := .pointer (some ⟨gw, t, none⟩)) hR 27 rfl (by kernel_rfl) (by kernel_rfl) (by kernel_rfl) (fun _ _ _ h => h) (by rfl) ?_ ?_
          · intro W hW; exact exec_at64 97 _ _ rfl Tryd.underlying97 rfl rfl (by omega)
          try simp only [Act.put, List.getElem_toArray, List.getElem_cons_succ, List.getElem_cons_zero, List.setIfInBounds_toArray, List.set_cons_zero, List.set_cons_succ]
          refine reg_take (v := .int .u64 (wt.toNat : Int)) hR 28 rfl (by kernel_rfl) (by kernel_rfl) (by kernel_rfl) (fun _ _ _ h => h) (by rfl) ?_ ?_
          · intro W hW; exact exec_load_cell 78 _ rfl Tryd.isAgg78 rfl (by rw [hW]; exact HWT.out)
          try simp only [Act.put, List.getElem_toArray, List.getElem_cons_succ, List.getElem_cons_zero, List.setIfInBounds_toArray, List.set_cons_zero, List.set_cons_succ]
          refine reg_step hR 3 (by kernel_rfl) rfl fun K hK => ?_
          try simp only [Act.put, List.getElem_toArray, List.getElem_cons_succ, List.getElem_cons_zero, List.setIfInBounds_toArray, List.set_cons_zero, List.set_cons_succ]
          rw [if_pos (by rfl)]
          go_simp
          refine (Qrot_any e 14 (by decide) (by decide) _).mono ?_; rintro e w9 ⟨rfl, hw9⟩; subst w9
          rw [p1.out]
          refine hK.out _ _ ((Sm.stays.refl _)) ?_
          clear hK K
          try simp only [Act.put, List.getElem_toArray, List.getElem_cons_succ, List.getElem_cons_zero, List.setIfInBounds_toArray, List.set_cons_zero, List.set_cons_succ]
          refine reg_step hR 5 (by kernel_rfl) rfl fun K hK => ?_
          try simp only [Act.put, List.getElem_toArray, List.getElem_cons_succ, List.getElem_cons_zero, List.setIfInBounds_toArray, List.set_cons_zero, List.set_cons_succ]
          rw [if_pos (by rfl)]
          go_simp
          refine (Qrot_any e 18 (by decide) (by decide) _).mono ?_; rintro e w9 ⟨rfl, hw9⟩; subst w9
          rw [p2.out]
          refine hK.out _ _ ((Sm.stays.refl _)) ?_
          clear hK K
          try simp only [Act.put, List.getElem_toArray, List.getElem_cons_succ, List.getElem_cons_zero, List.setIfInBounds_toArray, List.set_cons_zero, List.set_cons_succ]
          refine reg_take (v := .int .u64 (x1.toNat : Int)) hR 6 rfl (by kernel_rfl) (by kernel_rfl) (by kernel_rfl) (fun _ _ _ h => h) (by rfl) ?_ ?_
          · intro W hW; exact exec_xor64 _ _ rfl q1.out rfl rfl
          try simp only [Act.put, List.getElem_toArray, List.getElem_cons_succ, List.getElem_cons_zero, List.setIfInBounds_toArray, List.set_cons_zero, List.set_cons_succ]
          refine reg_step hR 8 (by kernel_rfl) rfl fun K hK => ?_
          try simp only [Act.put, List.getElem_toArray, List.getElem_cons_succ, List.getElem_cons_zero, List.setIfInBounds_toArray, List.set_cons_zero, List.set_cons_succ]
          rw [if_pos (by rfl)]
          go_simp
          refine (Qrot_any e 41 (by decide) (by decide) _).mono ?_; rintro e w9 ⟨rfl, hw9⟩; subst w9
          rw [p3.out]
          refine hK.out _ _ ((Sm.stays.refl _)) ?_
          clear hK K
          try simp only [Act.put, List.getElem_toArray, List.getElem_cons_succ, List.getElem_cons_zero, List.setIfInBounds_toArray, List.set_cons_zero, List.set_cons_succ]
          refine reg_take (v := .int .u64 (x2.toNat : Int)) hR 9 rfl (by kernel_rfl) (by kernel_rfl) (by kernel_rfl) (fun _ _ _ h => h) (by rfl) ?_ ?_
          · intro W hW; exact exec_xor64 _ _ rfl q2.out rfl rfl
          try simp only [Act.put, List.getElem_toArray, List.getElem_cons_succ, List.getElem_cons_zero, List.setIfInBounds_toArray, List.set_cons_zero, List.set_cons_succ]
          refine reg_take (v := .int .u64 (y1.toNat : Int)) hR 10 rfl (by kernel_rfl) (by kernel_rfl) (by kernel_rfl) (fun _ _ _ h => h) (by rfl) ?_ ?_
          · intro W hW; exact exec_add64 _ _ rfl q3.out rfl rfl
          try simp only [Act.put, List.getElem_toArray, List.getElem_cons_succ, List.getElem_cons_zero, List.setIfInBounds_toArray, List.set_cons_zero, List.set_cons_succ]
          refine reg_take (v := .int .u64 (y2.toNat : Int)) hR 21 rfl (by kernel_rfl) (by kernel_rfl) (by kernel_rfl) (fun _ _ _ h => h) (by rfl) ?_ ?_
          · intro W hW; exact exec_add64 _ _ rfl q8.out rfl rfl
          try simp only [Act.put, List.getElem_toArray, List.getElem_cons_succ, List.getElem_cons_zero, List.setIfInBounds_toArray, List.set_cons_zero, List.set_cons_succ]
          refine reg_take (v := .int .u64 (y3.toNat : Int)) hR 25 rfl (by kernel_rfl) (by kernel_rfl) (by kernel_rfl) (fun _ _ _ h => h) (by rfl) ?_ ?_
          · intro W hW; exact exec_add64 _ _ rfl q9.out rfl rfl
          try simp only [Act.put, List.getElem_toArray, List.getElem_cons_succ, List.getElem_cons_zero, List.setIfInBounds_toArray, List.set_cons_zero, List.set_cons_succ]
          refine reg_take (v := .int .u64 (T1.toNat : Int)) hR 29 rfl (by kernel_rfl) (by kernel_rfl) (by kernel_rfl) (fun _ _ _ h => h) (by rfl) ?_ ?_
          · intro W hW; exact exec_add64 _ _ rfl q10.out rfl rfl
          try simp only [Act.put, List.getElem_toArray, List.getElem_cons_succ, List.getElem_cons_zero, List.setIfInBounds_toArray, List.set_cons_zero, List.set_cons_succ]
          refine reg_take (v := .int .u64 (T1.toNat : Int)) hR 30 rfl (by kernel_rfl) (by kernel_rfl) (by kernel_rfl) (fun _ _ _ h => h) (by rfl) ?_ ?_
          · intro W hW; go_simp; try with_reducible rfl
          try simp only [Act.put, List.getElem_toArray, List.getElem_cons_succ, List.getElem_cons_zero, List.setIfInBounds_toArray, List.set_cons_zero, List.set_cons_succ]
          refine reg_done (by kernel_rfl) ?_ _
          go_wp2_with fail
          have hR := Sm.stays
          refine reg_start (Sm) follows_mixed ?_
          refine reg_take (v := .int .u64 (a.toNat : Int)) hR 0 rfl (by kernel_rfl) (by kernel_rfl) (by kernel_rfl) (fun _ _ _ h => h) (by rfl) ?_ ?_
          · intro W hW; go_simp; try with_reducible rfl
          try simp only [Act.put, List.getElem_toArray, List.getElem_cons_succ, List.getElem_cons_zero, List.setIfInBounds_toArray, List.set_cons_zero, List.set_cons_succ]
          refine reg_take (v := .int .u64 (a.toNat : Int)) hR 2 rfl (by kernel_rfl) (by kernel_rfl) (by kernel_rfl) (fun _ _ _ h => h) (by rfl) ?_ ?_
          · intro W hW; go_simp; try with_reducible rfl
          try simp only [Act.put, List.getElem_toArray, List.getElem_cons_succ, List.getElem_cons_zero, List.setIfInBounds_toArray, List.set_cons_zero, List.set_cons_succ]
          refine reg_take (v := .int .u64 (a.toNat : Int)) hR 5 rfl (by kernel_rfl) (by kernel_rfl) (by kernel_rfl) (fun _ _ _ h => h) (by rfl) ?_ ?_
          · intro W hW; go_simp; try with_reducible rfl
          try simp only [Act.put, List.getElem_toArray, List.getElem_cons_succ, List.getElem_cons_zero, List.setIfInBounds_toArray, List.set_cons_zero, List.set_cons_succ]
          refine reg_take (v := .int .u64 (a.toNat : Int)) hR 8 rfl (by kernel_rfl) (by kernel_rfl) (by kernel_rfl) (fun _ _ _ h => h) (by rfl) ?_ ?_
          · intro W hW; go_simp; try with_reducible rfl
          try simp only [Act.put, List.getElem_toArray, List.getElem_cons_succ, List.getElem_cons_zero, List.setIfInBounds_toArray, List.set_cons_zero, List.set_cons_succ]
          refine reg_take (v := .pointer (some ⟨gs, 1, none⟩)) hR 9 rfl (by kernel_rfl) (by kernel_rfl) (by kernel_rfl) (fun _ _ _ h => h) (by rfl) ?_ ?_
          · intro W hW; exact exec_at64 (k := 1) 87 _ _ rfl Tryd.underlying87 rfl rfl (by omega)
          try simp only [Act.put, List.getElem_toArray, List.getElem_cons_succ, List.getElem_cons_zero, List.setIfInBounds_toArray, List.set_cons_zero, List.set_cons_succ]
          refine reg_take (v := .int .u64 (b.toNat : Int)) hR 10 rfl (by kernel_rfl) (by kernel_rfl) (by kernel_rfl) (fun _ _ _ h => h) (by rfl) ?_ ?_
          · intro W hW; exact exec_load_cell 78 _ rfl Tryd.isAgg78 rfl (by rw [hW]; exact HG3.out.cell rfl)
          try simp only [Act.put, List.getElem_toArray, List.getElem_cons_succ, List.getElem_cons_zero, List.setIfInBounds_toArray, List.set_cons_zero, List.set_cons_succ]
          refine reg_take (v := .int .u64 (m1.toNat : Int)) hR 11 rfl (by kernel_rfl) (by kernel_rfl) (by kernel_rfl) (fun _ _ _ h => h) (by rfl) ?_ ?_
          · intro W hW; exact exec_and64 _ _ rfl r3.out rfl rfl
          try simp only [Act.put, List.getElem_toArray, List.getElem_cons_succ, List.getElem_cons_zero, List.setIfInBounds_toArray, List.set_cons_zero, List.set_cons_succ]
          refine reg_take (v := .int .u64 (a.toNat : Int)) hR 12 rfl (by kernel_rfl) (by kernel_rfl) (by kernel_rfl) (fun _ _ _ h => h) (by rfl) ?_ ?_
          · intro W hW; go_simp; try with_reducible rfl
          try simp only [Act.put, List.getElem_toArray, List.getElem_cons_succ, List.getElem_cons_zero, List.setIfInBounds_toArray, List.set_cons_zero, List.set_cons_succ]
          refine reg_take (v := .pointer (some ⟨gs, 2, none⟩)) hR 13 rfl (by kernel_rfl) (by kernel_rfl) (by kernel_rfl) (fun _ _ _ h => h) (by rfl) ?_ ?_
          · intro W hW; exact exec_at64 (k := 2) 87 _ _ rfl Tryd.underlying87 rfl rfl (by omega)
          try simp only [Act.put, List.getElem_toArray, List.getElem_cons_succ, List.getElem_cons_zero, List.setIfInBounds_toArray, List.set_cons_zero, List.set_cons_succ]
          refine reg_take (v := .int .u64 (c.toNat : Int)) hR 14 rfl (by kernel_rfl) (by kernel_rfl) (by kernel_rfl) (fun _ _ _ h => h) (by rfl) ?_ ?_
          · intro W hW; exact exec_load_cell 78 _ rfl Tryd.isAgg78 rfl (by rw [hW]; exact HG3.out.cell rfl)
          try simp only [Act.put, List.getElem_toArray, List.getElem_cons_succ, List.getElem_cons_zero, List.setIfInBounds_toArray, List.set_cons_zero, List.set_cons_succ]
          refine reg_take (v := .int .u64 (m2.toNat : Int)) hR 15 rfl (by kernel_rfl) (by kernel_rfl) (by kernel_rfl) (fun _ _ _ h => h) (by rfl) ?_ ?_
          · intro W hW; exact exec_and64 _ _ rfl r4.out rfl rfl
          try simp only [Act.put, List.getElem_toArray, List.getElem_cons_succ, List.getElem_cons_zero, List.setIfInBounds_toArray, List.set_cons_zero, List.set_cons_succ]
          refine reg_take (v := .int .u64 (m3.toNat : Int)) hR 16 rfl (by kernel_rfl) (by kernel_rfl) (by kernel_rfl) (fun _ _ _ h => h) (by rfl) ?_ ?_
          · intro W hW; exact exec_xor64 _ _ rfl r5.out rfl rfl
          try simp only [Act.put, List.getElem_toArray, List.getElem_cons_succ, List.getElem_cons_zero, List.setIfInBounds_toArray, List.set_cons_zero, List.set_cons_succ]
          refine reg_take (v := .pointer (some ⟨gs, 1, none⟩)) hR 17 rfl (by kernel_rfl) (by kernel_rfl) (by kernel_rfl) (fun _ _ _ h => h) (by rfl) ?_ ?_
          · intro W hW; exact exec_at64 (k := 1) 87 _ _ rfl Tryd.underlying87 rfl rfl (by omega)
          try simp only [Act.put, List.getElem_toArray, List.getElem_cons_succ, List.getElem_cons_zero, List.setIfInBounds_toArray, List.set_cons_zero, List.set_cons_succ]
          refine reg_take (v := .int .u64 (b.toNat : Int)) hR 18 rfl (by kernel_rfl) (by kernel_rfl) (by kernel_rfl) (fun _ _ _ h => h) (by rfl) ?_ ?_
          · intro W hW; exact exec_load_cell 78 _ rfl Tryd.isAgg78 rfl (by rw [hW]; exact HG3.out.cell rfl)
          try simp only [Act.put, List.getElem_toArray, List.getElem_cons_succ, List.getElem_cons_zero, List.setIfInBounds_toArray, List.set_cons_zero, List.set_cons_succ]
          refine reg_take (v := .pointer (some ⟨gs, 2, none⟩)) hR 19 rfl (by kernel_rfl) (by kernel_rfl) (by kernel_rfl) (fun _ _ _ h => h) (by rfl) ?_ ?_
          · intro W hW; exact exec_at64 (k := 2) 87 _ _ rfl Tryd.underlying87 rfl rfl (by omega)
          try simp only [Act.put, List.getElem_toArray, List.getElem_cons_succ, List.getElem_cons_zero, List.setIfInBounds_toArray, List.set_cons_zero, List.set_cons_succ]
          refine reg_take (v := .int .u64 (c.toNat : Int)) hR 20 rfl (by kernel_rfl) (by kernel_rfl) (by kernel_rfl) (fun _ _ _ h => h) (by rfl) ?_ ?_
          · intro W hW; exact exec_load_cell 78 _ rfl Tryd.isAgg78 rfl (by rw [hW]; exact HG3.out.cell rfl)
          try simp only [Act.put, List.getElem_toArray, List.getElem_cons_succ, List.getElem_cons_zero, List.setIfInBounds_toArray, List.set_cons_zero, List.set_cons_succ]
          refine reg_take (v := .int .u64 (m4.toNat : Int)) hR 21 rfl (by kernel_rfl) (by kernel_rfl) (by kernel_rfl) (fun _ _ _ h => h) (by rfl) ?_ ?_
          · intro W hW; exact exec_and64 _ _ rfl r6.out rfl rfl
          try simp only [Act.put, List.getElem_toArray, List.getElem_cons_succ, List.getElem_cons_zero, List.setIfInBounds_toArray, List.set_cons_zero, List.set_cons_succ]
          refine reg_take (v := .int .u64 (m5.toNat : Int)) hR 22 rfl (by kernel_rfl) (by kernel_rfl) (by kernel_rfl) (fun _ _ _ h => h) (by rfl) ?_ ?_
          · intro W hW; exact exec_xor64 _ _ rfl r7.out rfl rfl
          try simp only [Act.put, List.getElem_toArray, List.getElem_cons_succ, List.getElem_cons_zero, List.setIfInBounds_toArray, List.set_cons_zero, List.set_cons_succ]
          refine reg_step hR 1 (by kernel_rfl) rfl fun K hK => ?_
          try simp only [Act.put, List.getElem_toArray, List.getElem_cons_succ, List.getElem_cons_zero, List.setIfInBounds_toArray, List.set_cons_zero, List.set_cons_succ]
          rw [if_pos (by rfl)]
          go_simp
          refine (Qrot_any a 28 (by decide) (by decide) _).mono ?_; rintro e w9 ⟨rfl, hw9⟩; subst w9
          rw [p4.out]
          refine hK.out _ _ ((Sm.stays.refl _)) ?_
          clear hK K
          try simp only [Act.put, List.getElem_toArray, List.getElem_cons_succ, List.getElem_cons_zero, List.setIfInBounds_toArray, List.set_cons_zero, List.set_cons_succ]
          refine reg_step hR 3 (by kernel_rfl) rfl fun K hK => ?_
          try simp only [Act.put, List.getElem_toArray, List.getElem_cons_succ, List.getElem_cons_zero, List.setIfInBounds_toArray, List.set_cons_zero, List.set_cons_succ]
          rw [if_pos (by rfl)]
          go_simp
          refine (Qrot_any a 34 (by decide) (by decide) _).mono ?_; rintro e w9 ⟨rfl, hw9⟩; subst w9
          rw [p5.out]
          refine hK.out _ _ ((Sm.stays.refl _)) ?_
          clear hK K
          try simp only [Act.put, List.getElem_toArray, List.getElem_cons_succ, List.getElem_cons_zero, List.setIfInBounds_toArray, List.set_cons_zero, List.set_cons_succ]
          refine reg_take (v := .int .u64 (v1.toNat : Int)) hR 4 rfl (by kernel_rfl) (by kernel_rfl) (by kernel_rfl) (fun _ _ _ h => h) (by rfl) ?_ ?_
          · intro W hW; exact exec_xor64 _ _ rfl r1.out rfl rfl
          try simp only [Act.put, List.getElem_toArray, List.getElem_cons_succ, List.getElem_cons_zero, List.setIfInBounds_toArray, List.set_cons_zero, List.set_cons_succ]
          refine reg_step hR 6 (by kernel_rfl) rfl fun K hK => ?_
          try simp only [Act.put, List.getElem_toArray, List.getElem_cons_succ, List.getElem_cons_zero, List.setIfInBounds_toArray, List.set_cons_zero, List.set_cons_succ]
          rw [if_pos (by rfl)]
          go_simp
          refine (Qrot_any a 39 (by decide) (by decide) _).mono ?_; rintro e w9 ⟨rfl, hw9⟩; subst w9
          rw [p6.out]
          refine hK.out _ _ ((Sm.stays.refl _)) ?_
          clear hK K
          try simp only [Act.put, List.getElem_toArray, List.getElem_cons_succ, List.getElem_cons_zero, List.setIfInBounds_toArray, List.set_cons_zero, List.set_cons_succ]
          refine reg_take (v := .int .u64 (v2.toNat : Int)) hR 7 rfl (by kernel_rfl) (by kernel_rfl) (by kernel_rfl) (fun _ _ _ h => h) (by rfl) ?_ ?_
          · intro W hW; exact exec_xor64 _ _ rfl r2.out rfl rfl
          try simp only [Act.put, List.getElem_toArray, List.getElem_cons_succ, List.getElem_cons_zero, List.setIfInBounds_toArray, List.set_cons_zero, List.set_cons_succ]
          refine reg_take (v := .int .u64 (T2.toNat : Int)) hR 23 rfl (by kernel_rfl) (by kernel_rfl) (by kernel_rfl) (fun _ _ _ h => h) (by rfl) ?_ ?_
          · intro W hW; exact exec_add64 _ _ rfl r8.out rfl rfl
          try simp only [Act.put, List.getElem_toArray, List.getElem_cons_succ, List.getElem_cons_zero, List.setIfInBounds_toArray, List.set_cons_zero, List.set_cons_succ]
          refine reg_take (v := .int .u64 (T2.toNat : Int)) hR 24 rfl (by kernel_rfl) (by kernel_rfl) (by kernel_rfl) (fun _ _ _ h => h) (by rfl) ?_ ?_
          · intro W hW; go_simp; try with_reducible rfl
          try simp only [Act.put, List.getElem_toArray, List.getElem_cons_succ, List.getElem_cons_zero, List.setIfInBounds_toArray, List.set_cons_zero, List.set_cons_succ]
          refine reg_done (by kernel_rfl) ?_ _
          have HS6 := Lib.hid HS.out.drew.drew.drew
          have HZ6 := Lib.hid HZ.out.drew.drew.drew
          have HK6 := Lib.hid HK.out.drew.drew.drew
          have HW6 := Lib.hid HW.out.drew.drew.drew
          have HB6 := Lib.hid HB.out.drew.drew.drew
          clear HS HZ HK HW HG HB HGD HG1 HG2 HKT HWT
          generalize wr.drew.drew.drew = wd at HS6 HZ6 HK6 HW6 HB6 HG3 ⊢
          have g1 := HG3.out.cell (k := 1) rfl
          have g2 := HG3.out.cell (k := 2) rfl
          have g3 := HG3.out.cell (k := 3) rfl
          have g5 := HG3.out.cell (k := 5) rfl
          have g6 := HG3.out.cell (k := 6) rfl
          unfold B64 at g1 g2 g3 g5 g6
          have ha1 := addU T1 T2
          have ha2 := addU d T1
          go_wp2_with (refine wpList_store_bk rfl 87 _ _ rfl gs rfl (cs64 [T1 + T2, a, b, c, d + T1, e, f, g]) _ rfl HG3.out info38 rfl (cs64_one _) ?_)
          have HG7 := Lib.hid (HG3.out.setRow (cs64 [T1 + T2, a, b, c, d + T1, e, f, g]))
          have HS7 := Lib.hid (HS6.out.other (show w.heap.size ≠ gs by omega) (cs64 [T1 + T2, a, b, c, d + T1, e, f, g]).toArray)
          have HZ7 := Lib.hid (HZ6.out.other (show w.heap.size + 1 ≠ gs by omega) (cs64 [T1 + T2, a, b, c, d + T1, e, f, g]).toArray)
          have HK7 := Lib.hid (HK6.out.other (show gk ≠ gs by omega) (cs64 [T1 + T2, a, b, c, d + T1, e, f, g]).toArray)
          have HW7 := Lib.hid (HW6.out.other (show gw ≠ gs by omega) (cs64 [T1 + T2, a, b, c, d + T1, e, f, g]).toArray)
          have HB7 := Lib.hid (bl_setRow HB6.out (show w.heap.size ≤ gs by omega) (cs64 [T1 + T2, a, b, c, d + T1, e, f, g]).toArray)
          clear HS6 HZ6 HK6 HW6 HB6 HG3 g1 g2 g3 g5 g6 ha1 ha2
          go_roundw
          case rel => exact ⟨t + 1, by omega, by go_num, HS7, HZ7, HK7, HW7, Lib.hid (by rw [HRL.out]; exact HG7.out), HB7⟩
          case measure => simp [intOf]; omega
        · obtain rfl : t = 80 := by omega
          obtain ⟨Rl, hRl⟩ : ∃ R, R = (rounds KK W 80 (S8.of st)).list := ⟨_, rfl⟩
          have hR8 : Rl.length = 8 := by rw [hRl]; rfl
          rw [← hRl] at HG HMX
          clear hRl HM0 hlt
          have HZW := Lib.hid (show List.zipWith (· + ·) Rl st = mix KK st p by rw [HMX.out, List.zipWith_comm]; congr 1; funext x y; exact UInt64.add_comm _ _)
          have HAT := Lib.hid (addT_at Rl st hR8 HLS.out)
          have HAS := Lib.hid (addT_set Rl st hR8 HLS.out)
          have HAL := Lib.hid (addT_length Rl st hR8 HLS.out)
          have HAA := Lib.hid (addT_all Rl st hR8 HLS.out)
          have HA0 := Lib.hid (show addT Rl st 0 = Rl by simp [addT])
          go_wp2
          go_loopw [17] (fun vi wr => ∃ t : Nat, t ≤ 8 ∧ vi = .int .i64 (t : Int) ∧ Hid (Bk wr w.heap.size (cs64 st)) ∧ Hid (Bk wr (w.heap.size + 1) z38) ∧ Hid (Bk wr gs (cs64 (addT Rl st t))) ∧ Hid (Below w.heap.size w wr)) (fun vi _ => 8 - (intOf vi).toNat)
          case atStart => exact ⟨0, by omega, rfl, HS, HZ, Lib.hid (by rw [HA0.out]; exact HG.out), HB⟩
          case round =>
            clear HS HZ HG HB HK HW
            obtain ⟨t, ht, rfl, HS, HZ, HG, HB⟩ := hrel
            by_cases hlt : t < 8
            · have hlr : t < Rl.length := by omega
              have hls : t < st.length := by have := HLS.out; omega
              have hset := HAS.out t hlt
              have hcr : (cs64 (addT Rl st t))[t]? = some (.int .u64 ((Rl[t]).toNat : Int)) := by rw [cs64, List.getElem?_map, HAT.out t hlt, List.getElem?_eq_getElem hlr]; rfl
              have hcs : (cs64 st)[t]? = some (.int .u64 ((st[t]).toNat : Int)) := by rw [cs64, List.getElem?_map, List.getElem?_eq_getElem hls]; rfl
              generalize Rl[t] = x at hset hcr
              generalize st[t] = y at hset hcs
              obtain ⟨z, qz⟩ : ∃ z : UInt64, Hid (x + y = z) := ⟨_, Lib.hid rfl⟩
              rw [qz.out] at hset
              have HSET := Lib.hid hset
              have hcN : wr.drew.cell? ⟨gs, t, none⟩ = some (.int .u64 (x.toNat : Int)) := HG.out.cell hcr
              have hcY : wr.drew.cell? ⟨w.heap.size, t, none⟩ = some (.int .u64 (y.toNat : Int)) := HS.out.cell hcs
              have HCN := Lib.hid hcN
              have HCY := Lib.hid hcY
              have HGL := Lib.hid (show (cs64 (addT Rl st t)).length = 8 by rw [cs64_length, HAL.out t])
              have hsl : w.heap.size < wr.heap.size := HS.out.lt
              clear hset hcr hcs hcN hcY
              go_wp2_with fail
              have hR := Kc.stays (gs) t
              refine reg_start (Kc (gs) t) follows_mixed ?_
              refine reg_take (v := .int .i64 ((t : Nat) : Int)) hR 0 rfl (by kernel_rfl) (by kernel_rfl) (by kernel_rfl) (fun _ _ _ h => h) (by rfl) ?_ ?_
              · intro W hW; go_simp; try with_reducible rfl
              try simp only [Act.put, List.getElem_toArray, List.getElem_cons_succ, List.getElem_cons_zero, List.setIfInBounds_toArray, List.set_cons_zero, List.set_cons_succ]
              refine reg_take (v := .int .i64 ((t : Nat) : Int)) hR 1 rfl (by kernel_rfl) (by kernel_rfl) (by kernel_rfl) (fun _ _ _ h => h) (by rfl) ?_ ?_
              · intro W hW; go_simp; try with_reducible rfl
              try simp only [Act.put, List.getElem_toArray, List.getElem_cons_succ, List.getElem_cons_zero, List.setIfInBounds_toArray, List.set_cons_zero, List.set_cons_succ]
              refine reg_take (v := .pointer (some ⟨gs, t, none⟩)) hR 2 rfl (by kernel_rfl) (by kernel_rfl) (by kernel_rfl) (fun _ _ _ h => h) (by rfl) ?_ ?_
              · intro W hW; exact exec_at64 87 _ _ rfl Tryd.underlying87 rfl rfl (by omega)
              try simp only [Act.put, List.getElem_toArray, List.getElem_cons_succ, List.getElem_cons_zero, List.setIfInBounds_toArray, List.set_cons_zero, List.set_cons_succ]
              refine reg_take (v := .int .i64 ((t : Nat) : Int)) hR 4 rfl (by kernel_rfl) (by kernel_rfl) (by kernel_rfl) (fun _ _ _ h => h) (by rfl) ?_ ?_
              · intro W hW; go_simp; try with_reducible rfl
              try simp only [Act.put, List.getElem_toArray, List.getElem_cons_succ, List.getElem_cons_zero, List.setIfInBounds_toArray, List.set_cons_zero, List.set_cons_succ]
              refine reg_take (v := .pointer (some ⟨w.heap.size, t, none⟩)) hR 5 rfl (by kernel_rfl) (by kernel_rfl) (by kernel_rfl) (fun _ _ _ h => h) (by rfl) ?_ ?_
              · intro W hW; exact exec_at64 87 _ _ rfl Tryd.underlying87 rfl rfl (by omega)
              try simp only [Act.put, List.getElem_toArray, List.getElem_cons_succ, List.getElem_cons_zero, List.setIfInBounds_toArray, List.set_cons_zero, List.set_cons_succ]
              refine reg_take (v := .int .u64 (y.toNat : Int)) hR 6 rfl (by kernel_rfl) (by kernel_rfl) (by kernel_rfl) (fun _ _ _ h => h) (by rfl) ?_ ?_
              · intro W hW; exact exec_load_cell 78 _ rfl Tryd.isAgg78 rfl ((hW.cellO hsl (by simp only; omega)).trans HCY.out)
              try simp only [Act.put, List.getElem_toArray, List.getElem_cons_succ, List.getElem_cons_zero, List.setIfInBounds_toArray, List.set_cons_zero, List.set_cons_succ]
              refine reg_step hR 3 (by kernel_rfl) rfl fun K hK => ?_
              try simp only [Act.put, List.getElem_toArray, List.getElem_cons_succ, List.getElem_cons_zero, List.setIfInBounds_toArray, List.set_cons_zero, List.set_cons_succ]
              rw [if_pos (by rfl)]
              refine wp_exec' (.int .u64 (x.toNat : Int)) (exec_load_cell 78 _ rfl Tryd.isAgg78 rfl (HCN.out)) ?_
              refine hK.out _ _ ((Kc.stays _ _).refl _) ?_
              clear hK K
              try simp only [Act.put, List.getElem_toArray, List.getElem_cons_succ, List.getElem_cons_zero, List.setIfInBounds_toArray, List.set_cons_zero, List.set_cons_succ]
              refine reg_take (v := .int .u64 (z.toNat : Int)) hR 7 rfl (by kernel_rfl) (by kernel_rfl) (by kernel_rfl) (fun _ _ _ h => h) (by rfl) ?_ ?_
              · intro W hW; exact exec_add64 _ _ rfl qz.out rfl rfl
              try simp only [Act.put, List.getElem_toArray, List.getElem_cons_succ, List.getElem_cons_zero, List.setIfInBounds_toArray, List.set_cons_zero, List.set_cons_succ]
              refine reg_take (v := .pointer (some ⟨gs, t, none⟩)) hR 8 rfl (by kernel_rfl) (by kernel_rfl) (by kernel_rfl) (fun _ _ _ h => h) (by rfl) ?_ ?_
              · intro W hW; exact exec_at64 87 _ _ rfl Tryd.underlying87 rfl rfl (by omega)
              try simp only [Act.put, List.getElem_toArray, List.getElem_cons_succ, List.getElem_cons_zero, List.setIfInBounds_toArray, List.set_cons_zero, List.set_cons_succ]
              refine reg_step hR 9 (by kernel_rfl) rfl fun K hK => ?_
              try simp only [Act.put, List.getElem_toArray, List.getElem_cons_succ, List.getElem_cons_zero, List.setIfInBounds_toArray, List.set_cons_zero, List.set_cons_succ]
              rw [if_pos (by rfl)]
              refine wp_store_cell _ _ rfl rfl rfl HG.out.drew (by rw [HGL.out]; omega) ?_
              refine hK.out _ _ (Kc.of_set _ _) ?_
              clear hK K
              try simp only [Act.put, List.getElem_toArray, List.getElem_cons_succ, List.getElem_cons_zero, List.setIfInBounds_toArray, List.set_cons_zero, List.set_cons_succ]
              refine reg_done (by kernel_rfl) ?_ _
              have HS5 := Lib.hid (HS.out.drew.setCell_ne (show w.heap.size ≠ gs by omega) t (B64 z))
              have HZ5 := Lib.hid (HZ.out.drew.setCell_ne (show w.heap.size + 1 ≠ gs by omega) t (B64 z))
              have HG5 := Lib.hid (HG.out.drew.setCell t (B64 z))
              have HB5 := Lib.hid (bl_setCell (w0 := w) HB.out.drew (show w.heap.size ≤ gs by omega) t (B64 z))
              have hg5 : Bk (wr.drew.setCell ⟨gs, t, none⟩ (B64 z)) gs (cs64 (addT Rl st (t + 1))) := by rw [← HSET.out, show cs64 ((addT Rl st t).set t z) = (cs64 (addT Rl st t)).set t (B64 z) by rw [cs64, cs64, List.map_set]]; exact HG5.out
              have HG6 := Lib.hid hg5
              unfold B64 at HS5 HZ5 HG6 HB5
              clear hg5 HG5 HS HZ HG HB HCN HCY
              go_wp2
              go_roundw
              case rel => exact ⟨t + 1, by omega, by go_num, HS5, HZ5, HG6, HB5⟩
              case measure => simp [intOf]; omega
            · obtain rfl : t = 8 := by omega
              have hg := HG.out
              rw [HAA.out, HZW.out] at hg
              have HG8 := Lib.hid hg
              have HML := Lib.hid (show (cs64 (mix KK st p)).length = 8 by rw [cs64_length, ← HZW.out, ← HAA.out, HAL.out])
              clear hg HG
              go_wp2_with (first | (refine wpList_load_at rfl 87 _ rfl ⟨gs, 0, none⟩ rfl (cs64 (mix KK st p)) _ HG8.out.at_ Tryd.underlying87 rfl (by rw [HML.out]; exact info38) ?_) | (refine wpList_store_bk rfl 87 _ _ rfl (w.heap.size + 1) rfl (cs64 (mix KK st p)) z38 rfl HZ.out (by rw [HML.out]; exact info38) (by rw [HML.out]; exact len_z38) (cs64_one _) ?_))
              exact ret_bk rfl (w.heap.size + 1) _ _ rfl rfl (HZ.out.setRow _) Tryd.underlying87 rfl (by rw [HML.out]; exact info38) ⟨rfl, bl_setRow HB.out (by omega) _⟩
end Go.Proofs.YtdfihpnmiiaflaaDoor
