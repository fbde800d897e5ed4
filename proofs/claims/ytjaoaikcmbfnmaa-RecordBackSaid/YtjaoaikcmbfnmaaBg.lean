/- RecordBack: the walk. -/
import Derived.Test.YtjaoaikcmbfnmaaBb
import Derived.Test.YtjaoaikcmbfnmaaPk
namespace Go.Proofs.Ytjaoaikcmbfnmaa
set_option maxRecDepth 100000
set_option linter.unusedSimpArgs false
set_option linter.unusedVariables false
open Go.RowKit

theorem row_lit {base : Nat} {e : TypeId} {size : Nat} (w : World) (cs : List Value) (hb : base ≤ w.heap.size) (hs : cs.length = size) : (w.alloc (.cells cs.toArray e)).ownsRow base e size (.slice (some ⟨w.heap.size, 0, none⟩) 1 1) 1 cs := by
  have := World.ownsRow_lit (base := base) (e := e) (size := size) w cs.toArray 1 hb (by simp only [maxLen]; omega) (by simpa using hs)
  simpa using this
theorem recs_le : ∀ (C : List UInt8) (rs : List (UInt8 × List UInt8)), Vrs rs → (recsB C rs).length ≤ rs.length * 8210
  | _, [], _ => Nat.zero_le _
  | C, r :: t, h => by
    have ih := recs_le (nextR C r.1 r.2) t (fun x hx => h x (List.mem_cons_of_mem _ hx))
    have hv := (h r List.mem_cons_self).2
    have hn := numSize_bd r.2.length
    rw [recsB, List.length_append, recB_length, List.length_cons]
    omega
/-- Records' bytes, cut: the first ones, as far as they are whole, and what reads as no record. -/
theorem cut_rem (C : List UInt8) (rs : List (UInt8 × List UInt8)) (k r : Nat) (hv : Vrs rs) (hk : k ≤ rs.length) (h1 : (recsB C (rs.take k)).length ≤ r) (h2 : k < rs.length → r < (recsB C (rs.take (k + 1))).length) :
    ∃ tail, (recsB C rs).take r = recsB C (rs.take k) ++ tail ∧ readErr (endR C (rs.take k)) tail ≠ 0 := by
  refine ⟨(recsB (endR C (rs.take k)) (rs.drop k)).take (r - (recsB C (rs.take k)).length), ?_, ?_⟩
  · rw [recsB_take C rs k, List.take_append, List.take_of_length_le h1]
  · by_cases hlt : k < rs.length
    · have hs := (recs_step C rs k hlt).1
      have h3 := h2 hlt
      rw [hs, List.length_append] at h3
      rw [rs_at hlt, recsB, List.take_append_of_le_length (by omega)]
      have hv' := hv rs[k] (List.getElem_mem hlt)
      exact cut_short _ _ _ hv' _ (by omega)
    · rw [List.drop_eq_nil_of_le (by omega)]
      simp only [recsB, List.take_nil]
      exact read_nil _
/-- The records of a list, alone. -/
def r_ (l : List Rv) : List (UInt8 × List UInt8) := l.map Rv.r

set_option maxHeartbeats 6400000 in
theorem Back_any (A0 : Option Addr) (n0 c0 : Nat) (l0 : List Rv) (l1 : List UInt8) (cut : Int) (w : World) (hr : Rs w w.heap.size A0 n0 c0 l0) (hC : l1.length = 32) :
    Calls Try.prog 4 #[.slice A0 n0 c0, .agg (cs8 l1).toArray, .int .i64 cut] w fun e w' => e = .returned (.bool true) ∧ Below w.heap.size w w' := by
  have HA := Lib.hid hr
  have HC := Lib.hid hC
  have hlen := Lib.hid hr.1
  have HC8 := Lib.hid (show (cs8 l1).length = 32 by rw [cs8_length, hC])
  have hb := bl_alloc (bl0 w) (.cells (cs8 l1).toArray 23)
  have HB := Lib.hid hb
  have H4 := Lib.hid (Bk.new w (cs8 l1) 23)
  clear hr hb
  go_enter Try.func4, Try.ntmps4
  go_wp2_with fail
  generalize w.alloc (.cells (cs8 l1).toArray 23) = w1 at HB H4 ⊢
  refine (lives_any w1).mono ?_; rintro e w2 ⟨rfl, hb⟩
  have HB2 := Lib.hid (bl_call HB.out hb)
  have H42 := Lib.hid (H4.out.keep hb)
  clear HB H4 hb
  by_cases hf : few l0
  case neg =>
    have HF := Lib.hid hf
    clear hf
    go_wp2_with fail
    refine (Light_no w2 (HA.out.below HB2.out) HF.out).mono ?_; rintro e w3 ⟨rfl, rfl⟩
    go_wp2_with fail
    go_ret
    exact ⟨rfl, HB2.out⟩
  have HF := Lib.hid hf
  have hn0 : n0 ≤ 40 := by have := hlen.out; have := hf.1; omega
  clear hf
  go_wp2_with fail
  refine (Light_yes w2 (HA.out.below HB2.out) HF.out).mono ?_; rintro e w3 ⟨rfl, rfl⟩
  rename World => w2
  go_wp2_with fail
  refine region_meetQ (fun a0 a' w' => ∃ p q, a' = puts a0 [(24, .slice (some ⟨p, 0, none⟩) 1 1), (25, .agg (cs8 l1).toArray), (26, .slice (some ⟨q, 0, none⟩) 1 1), (9, .slice (some ⟨p, 0, none⟩) 1 1), (10, .slice (some ⟨q, 0, none⟩) 1 1)] ∧ Hid (w2.heap.size ≤ p) ∧ Hid (w2.heap.size ≤ q) ∧ Hid (p ≠ q) ∧ Hid (w'.ownsRow w2.heap.size 3 1 (.slice (some ⟨p, 0, none⟩) 1 1) 1 [.int .i64 0]) ∧ Hid (w'.ownsRow w2.heap.size 23 32 (.slice (some ⟨q, 0, none⟩) 1 1) 1 (cs8 l1)) ∧ Hid (Below w2.heap.size w2 w')) ?_ ?_
  · have hR := Sb.stays w2.heap.size
    refine reg_start (Sb w2.heap.size) follows_mixed ?_
    have HC0 := Lib.hid H42.out.drew
    have HltC := Lib.hid H42.out.lt
    have HB := Lib.hid (Below.refl w2.heap.size w2).drew
    generalize w2.drew = u0 at HC0 HB ⊢
    refine reg_take (v := .agg (cs8 l1).toArray) hR 1 rfl (by kernel_rfl) (by kernel_rfl) (by kernel_rfl) (fun _ _ _ h => by cases h.1) (by rfl) ?_ ?_
    · intro W hW; exact exec_load_at 23 _ rfl ⟨w.heap.size, 0, none⟩ rfl (cs8 l1) _ (HC0.out.below hW HltC.out).at_ Try.underlying23 rfl (by rw [HC8.out]; exact info36)
    try simp only [Act.put, List.getElem_toArray, List.getElem_cons_succ, List.getElem_cons_zero, List.setIfInBounds_toArray, List.set_cons_zero, List.set_cons_succ]
    refine reg_fork (rs := [0, 2]) hR (by kernel_rfl) (by simp) ?_
    intro i hi; simp only [List.mem_cons, List.not_mem_nil, or_false] at hi
    rcases hi with rfl | rfl
    · refine ⟨_, rfl, fun K hK => ?_⟩
      try simp only [Act.put, List.getElem_toArray, List.getElem_cons_succ, List.getElem_cons_zero, List.setIfInBounds_toArray, List.set_cons_zero, List.set_cons_succ]
      rw [if_pos (by rfl)]
      refine wp_build1 (T := 41) (E := 3) Try.underlying41 info_int (by decide) (by decide) _ rfl (.int .i64 0) [.int .i64 0] rfl rfl rfl ?_
      refine hK.out _ _ ((Below.refl _ _).alloc HB.out.size _) ?_
      clear hK K
      have HGp := Lib.hid (Bk.new u0 ([.int .i64 0] : List Value) 3)
      have HTp := Lib.hid (show w2.heap.size ≤ u0.heap.size from HB.out.size)
      have HB := Lib.hid (HB.out.alloc HB.out.size (.cells ([.int .i64 0] : List Value).toArray 3))
      have HLp := Lib.hid (show u0.heap.size < (u0.alloc (.cells ([.int .i64 0] : List Value).toArray 3)).heap.size by simp)
      have HRp := Lib.hid (row_lit (base := w2.heap.size) (e := 3) (size := 1) u0 ([.int .i64 0] : List Value) HTp.out rfl)
      generalize hgw : u0.alloc (.cells ([.int .i64 0] : List Value).toArray 3) = u1 at HRp HB HGp HLp ⊢
      clear hgw
      generalize hgw : u0.heap.size = p at HRp HGp HTp HLp ⊢
      clear hgw
      try simp only [Act.put, List.getElem_toArray, List.getElem_cons_succ, List.getElem_cons_zero, List.setIfInBounds_toArray, List.set_cons_zero, List.set_cons_succ]
      refine reg_take (v := .slice (some ⟨p, 0, none⟩) 1 1) hR 3 rfl (by kernel_rfl) (by kernel_rfl) (by kernel_rfl) (fun _ _ _ h => by cases h.1) (by rfl) ?_ ?_
      · intro W hW; go_simp; try with_reducible rfl
      try simp only [Act.put, List.getElem_toArray, List.getElem_cons_succ, List.getElem_cons_zero, List.setIfInBounds_toArray, List.set_cons_zero, List.set_cons_succ]
      refine reg_step hR 2 (by kernel_rfl) rfl fun K hK => ?_
      try simp only [Act.put, List.getElem_toArray, List.getElem_cons_succ, List.getElem_cons_zero, List.setIfInBounds_toArray, List.set_cons_zero, List.set_cons_succ]
      rw [if_pos (by rfl)]
      refine wp_build1 (T := 42) (E := 23) Try.underlying42 info_dig (by decide) (by decide) _ rfl (.agg (cs8 l1).toArray) (cs8 l1) rfl rfl HC8.out ?_
      refine hK.out _ _ ((Below.refl _ _).alloc HB.out.size _) ?_
      clear hK K
      have HGq := Lib.hid (Bk.new u1 ((cs8 l1) : List Value) 23)
      have HXpq := Lib.hid (show p ≠ u1.heap.size from by have h1 := HGp.out.lt; omega)
      have HGp := Lib.hid (HGp.out.old (.cells ((cs8 l1) : List Value).toArray 23))
      have HTq := Lib.hid (show w2.heap.size ≤ u1.heap.size from HB.out.size)
      have HB := Lib.hid (HB.out.alloc HB.out.size (.cells ((cs8 l1) : List Value).toArray 23))
      have HLq := Lib.hid (show u1.heap.size < (u1.alloc (.cells ((cs8 l1) : List Value).toArray 23)).heap.size by simp)
      have HLp := Lib.hid (show p < (u1.alloc (.cells ((cs8 l1) : List Value).toArray 23)).heap.size by have h1 := HLp.out; have h2 := HLq.out; omega)
      have HRp := Lib.hid (World.ownsRow.alloc HRp.out (.cells ((cs8 l1) : List Value).toArray 23))
      have HRq := Lib.hid (row_lit (base := w2.heap.size) (e := 23) (size := 32) u1 ((cs8 l1) : List Value) HTq.out HC8.out)
      generalize hgw : u1.alloc (.cells ((cs8 l1) : List Value).toArray 23) = u2 at HRp HRq HB HGp HGq HLp HLq ⊢
      clear hgw
      generalize hgw : u1.heap.size = q at HRq HGq HTq HLq HXpq ⊢
      clear hgw
      try simp only [Act.put, List.getElem_toArray, List.getElem_cons_succ, List.getElem_cons_zero, List.setIfInBounds_toArray, List.set_cons_zero, List.set_cons_succ]
      refine reg_take (v := .slice (some ⟨q, 0, none⟩) 1 1) hR 4 rfl (by kernel_rfl) (by kernel_rfl) (by kernel_rfl) (fun _ _ _ h => by cases h.1) (by rfl) ?_ ?_
      · intro W hW; go_simp; try with_reducible rfl
      try simp only [Act.put, List.getElem_toArray, List.getElem_cons_succ, List.getElem_cons_zero, List.setIfInBounds_toArray, List.set_cons_zero, List.set_cons_succ]
      refine reg_done (by kernel_rfl) ?_ _
      refine ⟨rfl, p, q, ?_, HTp, HTq, HXpq, HRp, HRq, HB⟩
      simp only [puts, List.foldl_cons, List.foldl_nil, Act.put, List.getElem_toArray, List.getElem_cons_succ, List.getElem_cons_zero, List.setIfInBounds_toArray, List.set_cons_zero, List.set_cons_succ]
    · refine ⟨_, rfl, fun K hK => ?_⟩
      try simp only [Act.put, List.getElem_toArray, List.getElem_cons_succ, List.getElem_cons_zero, List.setIfInBounds_toArray, List.set_cons_zero, List.set_cons_succ]
      rw [if_pos (by rfl)]
      refine wp_build1 (T := 42) (E := 23) Try.underlying42 info_dig (by decide) (by decide) _ rfl (.agg (cs8 l1).toArray) (cs8 l1) rfl rfl HC8.out ?_
      refine hK.out _ _ ((Below.refl _ _).alloc HB.out.size _) ?_
      clear hK K
      have HGq := Lib.hid (Bk.new u0 ((cs8 l1) : List Value) 23)
      have HTq := Lib.hid (show w2.heap.size ≤ u0.heap.size from HB.out.size)
      have HB := Lib.hid (HB.out.alloc HB.out.size (.cells ((cs8 l1) : List Value).toArray 23))
      have HLq := Lib.hid (show u0.heap.size < (u0.alloc (.cells ((cs8 l1) : List Value).toArray 23)).heap.size by simp)
      have HRq := Lib.hid (row_lit (base := w2.heap.size) (e := 23) (size := 32) u0 ((cs8 l1) : List Value) HTq.out HC8.out)
      generalize hgw : u0.alloc (.cells ((cs8 l1) : List Value).toArray 23) = u1 at HRq HB HGq HLq ⊢
      clear hgw
      generalize hgw : u0.heap.size = q at HRq HGq HTq HLq ⊢
      clear hgw
      try simp only [Act.put, List.getElem_toArray, List.getElem_cons_succ, List.getElem_cons_zero, List.setIfInBounds_toArray, List.set_cons_zero, List.set_cons_succ]
      refine reg_step hR 0 (by kernel_rfl) rfl fun K hK => ?_
      try simp only [Act.put, List.getElem_toArray, List.getElem_cons_succ, List.getElem_cons_zero, List.setIfInBounds_toArray, List.set_cons_zero, List.set_cons_succ]
      rw [if_pos (by rfl)]
      refine wp_build1 (T := 41) (E := 3) Try.underlying41 info_int (by decide) (by decide) _ rfl (.int .i64 0) [.int .i64 0] rfl rfl rfl ?_
      refine hK.out _ _ ((Below.refl _ _).alloc HB.out.size _) ?_
      clear hK K
      have HGp := Lib.hid (Bk.new u1 ([.int .i64 0] : List Value) 3)
      have HXqp := Lib.hid (show q ≠ u1.heap.size from by have h1 := HGq.out.lt; omega)
      have HGq := Lib.hid (HGq.out.old (.cells ([.int .i64 0] : List Value).toArray 3))
      have HTp := Lib.hid (show w2.heap.size ≤ u1.heap.size from HB.out.size)
      have HB := Lib.hid (HB.out.alloc HB.out.size (.cells ([.int .i64 0] : List Value).toArray 3))
      have HLp := Lib.hid (show u1.heap.size < (u1.alloc (.cells ([.int .i64 0] : List Value).toArray 3)).heap.size by simp)
      have HLq := Lib.hid (show q < (u1.alloc (.cells ([.int .i64 0] : List Value).toArray 3)).heap.size by have h1 := HLq.out; have h2 := HLp.out; omega)
      have HRq := Lib.hid (World.ownsRow.alloc HRq.out (.cells ([.int .i64 0] : List Value).toArray 3))
      have HRp := Lib.hid (row_lit (base := w2.heap.size) (e := 3) (size := 1) u1 ([.int .i64 0] : List Value) HTp.out rfl)
      generalize hgw : u1.alloc (.cells ([.int .i64 0] : List Value).toArray 3) = u2 at HRq HRp HB HGq HGp HLq HLp ⊢
      clear hgw
      generalize hgw : u1.heap.size = p at HRp HGp HTp HLp HXqp ⊢
      clear hgw
      try simp only [Act.put, List.getElem_toArray, List.getElem_cons_succ, List.getElem_cons_zero, List.setIfInBounds_toArray, List.set_cons_zero, List.set_cons_succ]
      refine reg_take (v := .slice (some ⟨p, 0, none⟩) 1 1) hR 3 rfl (by kernel_rfl) (by kernel_rfl) (by kernel_rfl) (fun _ _ _ h => by cases h.1) (by rfl) ?_ ?_
      · intro W hW; go_simp; try with_reducible rfl
      try simp only [Act.put, List.getElem_toArray, List.getElem_cons_succ, List.getElem_cons_zero, List.setIfInBounds_toArray, List.set_cons_zero, List.set_cons_succ]
      refine reg_take (v := .slice (some ⟨q, 0, none⟩) 1 1) hR 4 rfl (by kernel_rfl) (by kernel_rfl) (by kernel_rfl) (fun _ _ _ h => by cases h.1) (by rfl) ?_ ?_
      · intro W hW; go_simp; try with_reducible rfl
      try simp only [Act.put, List.getElem_toArray, List.getElem_cons_succ, List.getElem_cons_zero, List.setIfInBounds_toArray, List.set_cons_zero, List.set_cons_succ]
      refine reg_done (by kernel_rfl) ?_ _
      refine ⟨rfl, p, q, ?_, HTp, HTq, Lib.hid HXqp.out.symm, HRp, HRq, HB⟩
      simp only [puts, List.foldl_cons, List.foldl_nil, Act.put, List.getElem_toArray, List.getElem_cons_succ, List.getElem_cons_zero, List.setIfInBounds_toArray, List.set_cons_zero, List.set_cons_succ]
  · rintro a' w3 ⟨p, q, rfl, HTp, HTq, HPQ, HP, HQ, HB3⟩
    simp only [puts, List.foldl_cons, List.foldl_nil, Act.put, List.getElem_toArray, List.getElem_cons_succ, List.getElem_cons_zero, List.setIfInBounds_toArray, List.set_cons_zero, List.set_cons_succ]
    have hlt := H42.out.lt
    have HI0 := Lib.hid (show B4 w w3 w2.heap.size l1 (.slice none 0 0) (recsB l1 (r_ [])) (.slice none 0 0) 0 (rvCells []) (.slice (some ⟨p, 0, none⟩) 1 1) (0 + 1) (endsOf l1 (r_ [])) (.slice (some ⟨q, 0, none⟩) 1 1) (0 + 1) (chainsOf l1 (r_ [])) from by
      have hpq := HPQ.out
      have hdj : Dj (.slice (some ⟨p, 0, none⟩) 1 1) (.slice (some ⟨q, 0, none⟩) 1 1) := fun k h1 h2 => by
        have e1 : p = k := by simpa [Value.ownBlock] using h1
        have e2 : q = k := by simpa [Value.ownBlock] using h2
        omega
      have hnil : ∀ v, Dj (.slice none 0 0) v := fun v k h => by cases h
      exact ⟨bl_call HB2.out HB3.out, H42.out.keep HB3.out, hlt, HB3.out.size, World.ownsRow_nil _ _ _ _, World.ownsRow_nil _ _ _ _, by simpa [endsOf, r_, recsB] using HP.out, by simpa [chainsOf, r_, endR] using HQ.out, hnil _, hnil _, hnil _, hnil _, hnil _, hdj⟩)
    clear H42 HB2 HB3 HP HQ HTp HTq HPQ hlt
    generalize w2.heap.size = B at HI0
    go_wp2
    go_loopw [7, 8, 9, 10, 11] (fun v7 v8 v9 v10 v11 wr => ∃ (i nn : Nat) (gv : List Rv), i ≤ n0 ∧ nn ≤ i ∧ v11 = .int .i64 (i : Int) ∧ Hid (gv.length = nn) ∧ Hid (Vrs (r_ gv)) ∧ Hid (∀ x ∈ gv, x.ok w w.heap.size) ∧
      Hid (B4 w wr B l1 v7 (recsB l1 (r_ gv)) v8 nn (rvCells gv) v9 (nn + 1) (endsOf l1 (r_ gv)) v10 (nn + 1) (chainsOf l1 (r_ gv)))) (fun _ _ _ _ v11 _ => n0 - (RowKit.intOf v11).toNat)
    case atStart => exact ⟨0, 0, [], by omega, by omega, rfl, Lib.hid rfl, Lib.hid (fun r hr => by cases hr), Lib.hid (fun x hx => by cases hx), HI0⟩
    case round =>
      clear HI0
      obtain ⟨i, nn, gv, hin, hnn, rfl, HNN, HVS, HOK, HI⟩ := hrel
      by_cases hlt : i < n0
      · obtain ⟨ad, x, rfl, hx, hm, ho, e0, e1⟩ := (HA.out.below HI.out.bel).at_ hlt
        have HQ0 := Lib.hid (cell2 e0 e1)
        have HXO := Lib.hid ho
        have HXM := Lib.hid (HA.out.2.2.1 x hm)
        have HX := Lib.hid ((Rd.more ho HI.out.bel.size : Rd wr wr.heap.size x.A x.d.length x.c x.d))
        have HT1 := Lib.hid (show (ad.add (i * 2)).block < wr.heap.size from cell_lt (HQ0.out 0 _ rfl))
        obtain ⟨g10, k10, rfl, hg10, hg10b⟩ := World.ownsRow.form HI.out.c (show 0 < nn + 1 by omega)
        have hS : endR l1 ((r_ gv).take nn) = endR l1 (r_ gv) := by rw [List.take_of_length_le (by rw [r_, List.length_map]; have := HNN.out; omega)]
        have HS32 := Lib.hid (endR_length l1 HC.out (r_ gv))
        have hch : ∀ j v, (cs8 (endR l1 (r_ gv)))[j]? = some v → wr.cell? (((⟨g10, 0, none⟩ : Addr).add (nn * 32)).add j) = some v := fun j v hv => by
          rw [add_add]
          exact World.ownsRow.cells HI.out.c (g := g10) rfl _ _ (chainsOf_at l1 HC.out (r_ gv) nn (by rw [r_, List.length_map]; have := HNN.out; omega) j v (by rw [hS]; exact hv))
        obtain ⟨a10, ha10⟩ : ∃ a10 : Addr, (⟨g10, 0, none⟩ : Addr) = a10 := ⟨_, rfl⟩
        have HA10 := Lib.hid ha10
        rw [ha10] at hch HI ⊢
        have HCH := Lib.hid hch
        have HTA := Lib.hid (show a10.block < wr.heap.size by rw [← ha10]; exact (World.ownsRow.lt HI.out.c g10 (by rw [← ha10]; rfl)).2)
        clear hx hm ho e0 e1 hch hS ha10 hg10 hg10b
        have hn40 : nn ≤ 40 := by omega
        generalize hSS : endR l1 (r_ gv) = S at HS32 HCH
        have HSS := Lib.hid hSS
        have HS8 := Lib.hid (show (cs8 S).length = 32 by rw [cs8_length, HS32.out])
        clear hSS
        go_wp2
        refine region_meetQ (fun a0 a' w' => ∃ g v S2 R2 err, a' = puts a0 [(34, .slice (some a10) (nn + 1) k10), (35, .slice (some a10) (nn + 1) k10), (36, .int .i64 ((nn : Int) + 1)), (37, .int .i64 (nn : Int)), (38, .pointer (some (a10.add (nn * 32)))), (39, .agg (cs8 S).toArray), (40, .slice (some ad) n0 c0), (41, .int .i64 (i : Int)), (42, .pointer (some (ad.add (i * 2)))), (43, .agg #[.int .u8 (x.k.toNat : Int), .slice x.A x.d.length x.c]), (44, .tuple #[v, .agg (cs8 S2).toArray, .int .i64 err]), (33, .tuple #[v, .agg (cs8 S2).toArray, .int .i64 err]), (45, v), (46, .agg (cs8 S2).toArray), (47, .int .i64 err), (13, .pointer (some ⟨g, 0, none⟩)), (12, v), (14, .int .i64 err)] ∧ Hid (BP S x.k x.d S2 R2 err) ∧ Hid (wr.heap.size ≤ g) ∧ Hid (Bk w' g (cs8 S2)) ∧ Hid (Ow w' wr.heap.size v R2) ∧ Hid (Value.ownBlock v ≠ some g) ∧ Hid (Below wr.heap.size wr w')) ?_ ?_
        · have hR := Sb.stays wr.heap.size
          refine reg_start (Sb wr.heap.size) follows_mixed ?_
          have HQ1 := Lib.hid (show ∀ j v, ([.int .u8 (x.k.toNat : Int), .slice x.A x.d.length x.c] : List Value)[j]? = some v → wr.drew.cell? ((ad.add (i * 2)).add j) = some v from HQ0.out)
          have HCH1 := Lib.hid (show ∀ j v, (cs8 S)[j]? = some v → wr.drew.cell? ((a10.add (nn * 32)).add j) = some v from HCH.out)
          have HB := Lib.hid (Below.refl wr.heap.size wr).drew
          generalize wr.drew = u0 at HQ1 HCH1 HB ⊢
          refine reg_take (v := .slice (some a10) (nn + 1) k10) hR 0 rfl (by kernel_rfl) (by kernel_rfl) (by kernel_rfl) (fun _ _ _ h => by cases h.1) (by rfl) ?_ ?_
          · intro W hW; go_simp; try with_reducible rfl
          try simp only [Act.put, List.getElem_toArray, List.getElem_cons_succ, List.getElem_cons_zero, List.setIfInBounds_toArray, List.set_cons_zero, List.set_cons_succ]
          refine reg_take (v := .slice (some a10) (nn + 1) k10) hR 1 rfl (by kernel_rfl) (by kernel_rfl) (by kernel_rfl) (fun _ _ _ h => by cases h.1) (by rfl) ?_ ?_
          · intro W hW; go_simp; try with_reducible rfl
          try simp only [Act.put, List.getElem_toArray, List.getElem_cons_succ, List.getElem_cons_zero, List.setIfInBounds_toArray, List.set_cons_zero, List.set_cons_succ]
          refine reg_take (v := .int .i64 ((nn : Int) + 1)) hR 2 rfl (by kernel_rfl) (by kernel_rfl) (by kernel_rfl) (fun _ _ _ h => by cases h.1) (by rfl) ?_ ?_
          · intro W hW; go_simp; try with_reducible rfl
          try simp only [Act.put, List.getElem_toArray, List.getElem_cons_succ, List.getElem_cons_zero, List.setIfInBounds_toArray, List.set_cons_zero, List.set_cons_succ]
          refine reg_take (v := .int .i64 (nn : Int)) hR 3 rfl (by kernel_rfl) (by kernel_rfl) (by kernel_rfl) (fun _ _ _ h => by cases h.1) (by rfl) ?_ ?_
          · intro W hW; go_simp; rw [IntWalk.i64_in _ (by omega)]; try omega
          try simp only [Act.put, List.getElem_toArray, List.getElem_cons_succ, List.getElem_cons_zero, List.setIfInBounds_toArray, List.set_cons_zero, List.set_cons_succ]
          refine reg_take (v := .pointer (some (a10.add (nn * 32)))) hR 4 rfl (by kernel_rfl) (by kernel_rfl) (by kernel_rfl) (fun _ _ _ h => by cases h.1) (by rfl) ?_ ?_
          · intro W hW; go_simp; intro h; omega
          try simp only [Act.put, List.getElem_toArray, List.getElem_cons_succ, List.getElem_cons_zero, List.setIfInBounds_toArray, List.set_cons_zero, List.set_cons_succ]
          refine reg_take (v := .agg (cs8 S).toArray) hR 5 rfl (by kernel_rfl) (by kernel_rfl) (by kernel_rfl) (fun _ _ _ h => by cases h.1) (by rfl) ?_ ?_
          · intro W hW; exact exec_load_at 23 _ rfl (a10.add (nn * 32)) rfl (cs8 S) _ (fun j v hv => (hW.cell (by rw [add_block, add_block]; exact HTA.out)).trans (HCH1.out j v hv)) Try.underlying23 rfl (by rw [HS8.out]; exact info36)
          try simp only [Act.put, List.getElem_toArray, List.getElem_cons_succ, List.getElem_cons_zero, List.setIfInBounds_toArray, List.set_cons_zero, List.set_cons_succ]
          refine reg_take (v := .slice (some ad) n0 c0) hR 6 rfl (by kernel_rfl) (by kernel_rfl) (by kernel_rfl) (fun _ _ _ h => by cases h.1) (by rfl) ?_ ?_
          · intro W hW; go_simp; try with_reducible rfl
          try simp only [Act.put, List.getElem_toArray, List.getElem_cons_succ, List.getElem_cons_zero, List.setIfInBounds_toArray, List.set_cons_zero, List.set_cons_succ]
          refine reg_take (v := .int .i64 (i : Int)) hR 7 rfl (by kernel_rfl) (by kernel_rfl) (by kernel_rfl) (fun _ _ _ h => by cases h.1) (by rfl) ?_ ?_
          · intro W hW; go_simp; try with_reducible rfl
          try simp only [Act.put, List.getElem_toArray, List.getElem_cons_succ, List.getElem_cons_zero, List.setIfInBounds_toArray, List.set_cons_zero, List.set_cons_succ]
          refine reg_take (v := .pointer (some (ad.add (i * 2)))) hR 8 rfl (by kernel_rfl) (by kernel_rfl) (by kernel_rfl) (fun _ _ _ h => by cases h.1) (by rfl) ?_ ?_
          · intro W hW; go_simp; try with_reducible rfl
          try simp only [Act.put, List.getElem_toArray, List.getElem_cons_succ, List.getElem_cons_zero, List.setIfInBounds_toArray, List.set_cons_zero, List.set_cons_succ]
          refine reg_take (v := .agg #[.int .u8 (x.k.toNat : Int), .slice x.A x.d.length x.c]) hR 9 rfl (by kernel_rfl) (by kernel_rfl) (by kernel_rfl) (fun _ _ _ h => by cases h.1) (by rfl) ?_ ?_
          · intro W hW; exact exec_load_at 31 _ rfl (ad.add (i * 2)) rfl [.int .u8 (x.k.toNat : Int), .slice x.A x.d.length x.c] _ (fun j v hv => (hW.cell (by rw [add_block]; exact HT1.out)).trans (HQ1.out j v hv)) Try.underlying31 rfl info31
          try simp only [Act.put, List.getElem_toArray, List.getElem_cons_succ, List.getElem_cons_zero, List.setIfInBounds_toArray, List.set_cons_zero, List.set_cons_succ]
          refine reg_fork (rs := [10, 15]) hR (by kernel_rfl) (by simp) ?_
          intro i hi; simp only [List.mem_cons, List.not_mem_nil, or_false] at hi
          rcases hi with rfl | rfl
          · refine ⟨_, rfl, fun K hK => ?_⟩
            try simp only [Act.put, List.getElem_toArray, List.getElem_cons_succ, List.getElem_cons_zero, List.setIfInBounds_toArray, List.set_cons_zero, List.set_cons_succ]
            rw [if_pos (by rfl)]
            go_simp
            refine (Bytes_any u0 HS32.out ((HX.out.below HB.out).more HB.out.size)).mono ?_; rintro e u1 ⟨v, S2, R2, err, rfl, hbp, ho, hb⟩
            refine hK.out _ _ (show Below _ _ _ from hb.mono HB.out.size) ?_
            clear hK K
            have HBP := Lib.hid hbp
            have HS28 := Lib.hid (show (cs8 S2).length = 32 by rw [cs8_length, hbp.len.1])
            clear hbp
            have HO := Lib.hid (Ow.lower ho HB.out.size)
            clear ho
            have HB := Lib.hid (HB.out.trans (hb.mono HB.out.size))
            clear hb
            try simp only [Act.put, List.getElem_toArray, List.getElem_cons_succ, List.getElem_cons_zero, List.setIfInBounds_toArray, List.set_cons_zero, List.set_cons_succ]
            refine reg_take (v := .tuple #[v, .agg (cs8 S2).toArray, .int .i64 err]) hR 11 rfl (by kernel_rfl) (by kernel_rfl) (by kernel_rfl) (fun _ _ _ h => by cases h.1) (by rfl) ?_ ?_
            · intro W hW; go_simp; try with_reducible rfl
            try simp only [Act.put, List.getElem_toArray, List.getElem_cons_succ, List.getElem_cons_zero, List.setIfInBounds_toArray, List.set_cons_zero, List.set_cons_succ]
            refine reg_take (v := v) hR 12 rfl (by kernel_rfl) (by kernel_rfl) (by kernel_rfl) (fun _ _ _ h => by cases h.1) (by rfl) ?_ ?_
            · intro W hW; go_simp; try with_reducible rfl
            try simp only [Act.put, List.getElem_toArray, List.getElem_cons_succ, List.getElem_cons_zero, List.setIfInBounds_toArray, List.set_cons_zero, List.set_cons_succ]
            refine reg_take (v := .agg (cs8 S2).toArray) hR 13 rfl (by kernel_rfl) (by kernel_rfl) (by kernel_rfl) (fun _ _ _ h => by cases h.1) (by rfl) ?_ ?_
            · intro W hW; go_simp; try with_reducible rfl
            try simp only [Act.put, List.getElem_toArray, List.getElem_cons_succ, List.getElem_cons_zero, List.setIfInBounds_toArray, List.set_cons_zero, List.set_cons_succ]
            refine reg_take (v := .int .i64 err) hR 14 rfl (by kernel_rfl) (by kernel_rfl) (by kernel_rfl) (fun _ _ _ h => by cases h.1) (by rfl) ?_ ?_
            · intro W hW; go_simp; try with_reducible rfl
            try simp only [Act.put, List.getElem_toArray, List.getElem_cons_succ, List.getElem_cons_zero, List.setIfInBounds_toArray, List.set_cons_zero, List.set_cons_succ]
            refine reg_step hR 15 (by kernel_rfl) rfl fun K hK => ?_
            try simp only [Act.put, List.getElem_toArray, List.getElem_cons_succ, List.getElem_cons_zero, List.setIfInBounds_toArray, List.set_cons_zero, List.set_cons_succ]
            rw [if_pos (by rfl)]
            refine wp_alloc_z 23 rfl z36 zero36 ?_
            refine hK.out _ _ ((Below.refl _ _).alloc HB.out.size _) ?_
            clear hK K
            have HGg := Lib.hid (Bk.new u1 z36 23)
            have HNg := Lib.hid (show Value.ownBlock (v) ≠ some u1.heap.size from fun e => by have h1 := (World.ownsRow.lt HO.out _ e).2; omega)
            have HO := Lib.hid (Ow.alloc HO.out (.cells z36.toArray 23))
            have HTg := Lib.hid (show wr.heap.size ≤ u1.heap.size from HB.out.size)
            have HB := Lib.hid (HB.out.alloc HB.out.size (.cells z36.toArray 23))
            have HLg := Lib.hid (show u1.heap.size < (u1.alloc (.cells z36.toArray 23)).heap.size by simp)
            generalize hgw : u1.alloc (.cells z36.toArray 23) = u2 at HB HGg HO HLg ⊢
            clear hgw
            generalize hgw : u1.heap.size = g at HGg HTg HLg HNg ⊢
            clear hgw
            try simp only [Act.put, List.getElem_toArray, List.getElem_cons_succ, List.getElem_cons_zero, List.setIfInBounds_toArray, List.set_cons_zero, List.set_cons_succ]
            refine reg_take (v := v) hR 16 rfl (by kernel_rfl) (by kernel_rfl) (by kernel_rfl) (fun _ _ _ h => by cases h.1) (by rfl) ?_ ?_
            · intro W hW; go_simp; try with_reducible rfl
            try simp only [Act.put, List.getElem_toArray, List.getElem_cons_succ, List.getElem_cons_zero, List.setIfInBounds_toArray, List.set_cons_zero, List.set_cons_succ]
            refine reg_step hR 17 (by kernel_rfl) rfl fun K hK => ?_
            try simp only [Act.put, List.getElem_toArray, List.getElem_cons_succ, List.getElem_cons_zero, List.setIfInBounds_toArray, List.set_cons_zero, List.set_cons_succ]
            rw [if_pos (by rfl)]
            refine wp_store_bk 23 _ _ rfl g rfl (cs8 S2) z36 rfl HGg.out (by rw [HS28.out]; exact info36) (by rw [HS28.out]; exact len_z36) (cs8_all _) ?_
            refine hK.out _ _ (below_setRow (Below.refl _ _) HTg.out _) ?_
            clear hK K
            have HGg := Lib.hid (HGg.out.setRow (cs8 S2))
            have HO := Lib.hid (World.ownsRow.kept HO.out (grown_setRow u2 g ((cs8 S2)).toArray) (.inr HNg.out))
            have HB := Lib.hid (below_setRow HB.out HTg.out ((cs8 S2)).toArray)
            generalize hgw : u2.setRow g ((cs8 S2)).toArray = u3 at HB HGg HO ⊢
            clear hgw
            try simp only [Act.put, List.getElem_toArray, List.getElem_cons_succ, List.getElem_cons_zero, List.setIfInBounds_toArray, List.set_cons_zero, List.set_cons_succ]
            refine reg_take (v := .int .i64 err) hR 18 rfl (by kernel_rfl) (by kernel_rfl) (by kernel_rfl) (fun _ _ _ h => by cases h.1) (by rfl) ?_ ?_
            · intro W hW; go_simp; try with_reducible rfl
            try simp only [Act.put, List.getElem_toArray, List.getElem_cons_succ, List.getElem_cons_zero, List.setIfInBounds_toArray, List.set_cons_zero, List.set_cons_succ]
            refine reg_done (by kernel_rfl) ?_ _
            refine ⟨rfl, g, v, S2, R2, err, ?_, HBP, HTg, HGg, HO, HNg, HB⟩
            simp only [puts, List.foldl_cons, List.foldl_nil, Act.put, List.getElem_toArray, List.getElem_cons_succ, List.getElem_cons_zero, List.setIfInBounds_toArray, List.set_cons_zero, List.set_cons_succ]
          · refine ⟨_, rfl, fun K hK => ?_⟩
            try simp only [Act.put, List.getElem_toArray, List.getElem_cons_succ, List.getElem_cons_zero, List.setIfInBounds_toArray, List.set_cons_zero, List.set_cons_succ]
            rw [if_pos (by rfl)]
            refine wp_alloc_z 23 rfl z36 zero36 ?_
            refine hK.out _ _ ((Below.refl _ _).alloc HB.out.size _) ?_
            clear hK K
            have HGg := Lib.hid (Bk.new u0 z36 23)
            have HTg := Lib.hid (show wr.heap.size ≤ u0.heap.size from HB.out.size)
            have HB := Lib.hid (HB.out.alloc HB.out.size (.cells z36.toArray 23))
            have HLg := Lib.hid (show u0.heap.size < (u0.alloc (.cells z36.toArray 23)).heap.size by simp)
            generalize hgw : u0.alloc (.cells z36.toArray 23) = u1 at HB HGg HLg ⊢
            clear hgw
            generalize hgw : u0.heap.size = g at HGg HTg HLg ⊢
            clear hgw
            try simp only [Act.put, List.getElem_toArray, List.getElem_cons_succ, List.getElem_cons_zero, List.setIfInBounds_toArray, List.set_cons_zero, List.set_cons_succ]
            refine reg_step hR 10 (by kernel_rfl) rfl fun K hK => ?_
            try simp only [Act.put, List.getElem_toArray, List.getElem_cons_succ, List.getElem_cons_zero, List.setIfInBounds_toArray, List.set_cons_zero, List.set_cons_succ]
            rw [if_pos (by rfl)]
            go_simp
            refine (Bytes_any u1 HS32.out ((HX.out.below HB.out).more HB.out.size)).mono ?_; rintro e u2 ⟨v, S2, R2, err, rfl, hbp, ho, hb⟩
            refine hK.out _ _ (show Below _ _ _ from hb.mono HB.out.size) ?_
            clear hK K
            have HBP := Lib.hid hbp
            have HS28 := Lib.hid (show (cs8 S2).length = 32 by rw [cs8_length, hbp.len.1])
            clear hbp
            have HGg := Lib.hid (HGg.out.keep hb)
            have HNg := Lib.hid (show Value.ownBlock (v) ≠ some g from fun e => by have h1 := (World.ownsRow.lt ho _ e).1; have h2 := HLg.out; omega)
            have HO := Lib.hid (Ow.lower ho HB.out.size)
            clear ho
            have HB := Lib.hid (HB.out.trans (hb.mono HB.out.size))
            clear hb
            have HLg := Lib.hid (show g < u2.heap.size from HGg.out.lt)
            try simp only [Act.put, List.getElem_toArray, List.getElem_cons_succ, List.getElem_cons_zero, List.setIfInBounds_toArray, List.set_cons_zero, List.set_cons_succ]
            refine reg_take (v := .tuple #[v, .agg (cs8 S2).toArray, .int .i64 err]) hR 11 rfl (by kernel_rfl) (by kernel_rfl) (by kernel_rfl) (fun _ _ _ h => by cases h.1) (by rfl) ?_ ?_
            · intro W hW; go_simp; try with_reducible rfl
            try simp only [Act.put, List.getElem_toArray, List.getElem_cons_succ, List.getElem_cons_zero, List.setIfInBounds_toArray, List.set_cons_zero, List.set_cons_succ]
            refine reg_take (v := v) hR 12 rfl (by kernel_rfl) (by kernel_rfl) (by kernel_rfl) (fun _ _ _ h => by cases h.1) (by rfl) ?_ ?_
            · intro W hW; go_simp; try with_reducible rfl
            try simp only [Act.put, List.getElem_toArray, List.getElem_cons_succ, List.getElem_cons_zero, List.setIfInBounds_toArray, List.set_cons_zero, List.set_cons_succ]
            refine reg_take (v := .agg (cs8 S2).toArray) hR 13 rfl (by kernel_rfl) (by kernel_rfl) (by kernel_rfl) (fun _ _ _ h => by cases h.1) (by rfl) ?_ ?_
            · intro W hW; go_simp; try with_reducible rfl
            try simp only [Act.put, List.getElem_toArray, List.getElem_cons_succ, List.getElem_cons_zero, List.setIfInBounds_toArray, List.set_cons_zero, List.set_cons_succ]
            refine reg_take (v := .int .i64 err) hR 14 rfl (by kernel_rfl) (by kernel_rfl) (by kernel_rfl) (fun _ _ _ h => by cases h.1) (by rfl) ?_ ?_
            · intro W hW; go_simp; try with_reducible rfl
            try simp only [Act.put, List.getElem_toArray, List.getElem_cons_succ, List.getElem_cons_zero, List.setIfInBounds_toArray, List.set_cons_zero, List.set_cons_succ]
            refine reg_take (v := v) hR 16 rfl (by kernel_rfl) (by kernel_rfl) (by kernel_rfl) (fun _ _ _ h => by cases h.1) (by rfl) ?_ ?_
            · intro W hW; go_simp; try with_reducible rfl
            try simp only [Act.put, List.getElem_toArray, List.getElem_cons_succ, List.getElem_cons_zero, List.setIfInBounds_toArray, List.set_cons_zero, List.set_cons_succ]
            refine reg_step hR 17 (by kernel_rfl) rfl fun K hK => ?_
            try simp only [Act.put, List.getElem_toArray, List.getElem_cons_succ, List.getElem_cons_zero, List.setIfInBounds_toArray, List.set_cons_zero, List.set_cons_succ]
            rw [if_pos (by rfl)]
            refine wp_store_bk 23 _ _ rfl g rfl (cs8 S2) z36 rfl HGg.out (by rw [HS28.out]; exact info36) (by rw [HS28.out]; exact len_z36) (cs8_all _) ?_
            refine hK.out _ _ (below_setRow (Below.refl _ _) HTg.out _) ?_
            clear hK K
            have HGg := Lib.hid (HGg.out.setRow (cs8 S2))
            have HO := Lib.hid (World.ownsRow.kept HO.out (grown_setRow u2 g ((cs8 S2)).toArray) (.inr HNg.out))
            have HB := Lib.hid (below_setRow HB.out HTg.out ((cs8 S2)).toArray)
            generalize hgw : u2.setRow g ((cs8 S2)).toArray = u3 at HB HGg HO ⊢
            clear hgw
            try simp only [Act.put, List.getElem_toArray, List.getElem_cons_succ, List.getElem_cons_zero, List.setIfInBounds_toArray, List.set_cons_zero, List.set_cons_succ]
            refine reg_take (v := .int .i64 err) hR 18 rfl (by kernel_rfl) (by kernel_rfl) (by kernel_rfl) (fun _ _ _ h => by cases h.1) (by rfl) ?_ ?_
            · intro W hW; go_simp; try with_reducible rfl
            try simp only [Act.put, List.getElem_toArray, List.getElem_cons_succ, List.getElem_cons_zero, List.setIfInBounds_toArray, List.set_cons_zero, List.set_cons_succ]
            refine reg_done (by kernel_rfl) ?_ _
            refine ⟨rfl, g, v, S2, R2, err, ?_, HBP, HTg, HGg, HO, HNg, HB⟩
            simp only [puts, List.foldl_cons, List.foldl_nil, Act.put, List.getElem_toArray, List.getElem_cons_succ, List.getElem_cons_zero, List.setIfInBounds_toArray, List.set_cons_zero, List.set_cons_succ]
        · rintro a' w4 ⟨g, v, S2, R2, err, rfl, HBP, HTg, HGg, HO, HNg, HB⟩
          simp only [puts, List.foldl_cons, List.foldl_nil, Act.put, List.getElem_toArray, List.getElem_cons_succ, List.getElem_cons_zero, List.setIfInBounds_toArray, List.set_cons_zero, List.set_cons_succ]
          have HI4 := Lib.hid (HI.out.keep HB.out)
          have HS232 := Lib.hid HBP.out.len.1
          have HS28 := Lib.hid (show (cs8 S2).length = 32 by rw [cs8_length, HS232.out])
          obtain ⟨A5, c5, rfl, hrd⟩ := HO.out.rd
          have HRD := Lib.hid hrd
          have HX4 := Lib.hid (HX.out.top HB.out)
          have HQ4 := Lib.hid (fun j v hv => (HB.out.cell (by rw [add_block]; exact HT1.out)).trans (HQ0.out j v hv))
          clear hrd
          rcases HBP.out with ⟨hv, hS2, hR2, rfl⟩ | ⟨hv, rfl, rfl, rfl⟩
          · have HV := Lib.hid hv
            have HS2E := Lib.hid hS2
            have HR2E := Lib.hid hR2
            have HSZ := Lib.hid (show 1 + (numSize x.d.length + x.d.length) + 8 = R2.length by rw [hR2, recB_length])
            have HCH4 := Lib.hid (fun j v hv => (HB.out.cell (by rw [add_block, add_block]; exact HTA.out)).trans (HCH.out j v hv))
            have hT1 : (ad.add (i * 2)).block < w4.heap.size := by have := HT1.out; have := HB.out.size; omega
            have hTA : (a10.add (nn * 32)).block < w4.heap.size := by rw [add_block]; have := HTA.out; have := HB.out.size; omega
            have HNg7 := Lib.hid (show Value.ownBlock u7 ≠ some g from fun e => by have := (World.ownsRow.lt HI.out.b _ e).2; have := HTg.out; omega)
            have HNg8 := Lib.hid (show Value.ownBlock u8 ≠ some g from fun e => by have := (World.ownsRow.lt HI.out.g _ e).2; have := HTg.out; omega)
            have HNg9 := Lib.hid (show Value.ownBlock u9 ≠ some g from fun e => by have := (World.ownsRow.lt HI.out.e _ e).2; have := HTg.out; omega)
            have HNg10 := Lib.hid (show Value.ownBlock (.slice (some a10) (nn + 1) k10) ≠ some g from fun e => by have := (World.ownsRow.lt HI.out.c _ e).2; have := HTg.out; omega)
            have HNA := Lib.hid (show ¬ (Value.ownBlock u7 = some (ad.add (i * 2)).block ∨ Value.ownBlock u8 = some (ad.add (i * 2)).block) from by
              obtain ⟨ad', ea, hlow, _⟩ := HA.out.2.2.2 (by omega)
              injection ea with ea
              subst ea
              have h0 := HI.out.lt
              rw [add_block]
              rintro (e | e)
              · have := (World.ownsRow.lt HI.out.b _ e).1; omega
              · have := (World.ownsRow.lt HI.out.g _ e).1; omega)
            have HLB := Lib.hid (show (recsB l1 (r_ gv)).length ≤ 400000 from by
              have h1 := recs_le l1 (r_ gv) HVS.out
              have h2 : (r_ gv).length * 8210 ≤ 40 * 8210 := Nat.mul_le_mul_right _ (by rw [r_, List.length_map]; have := HNN.out; omega)
              omega)
            have HR28 := Lib.hid (show R2.length ≤ 8210 from HBP.out.len.2)
            clear hv hS2 hR2 HI HB HX HQ0 HCH HO HBP
            go_wp2
            -- region 15
            have hR := Old.stays
            refine reg_start Old follows_mixed ?_
            have HQ5 := Lib.hid (show ∀ j v, ([.int .u8 (x.k.toNat : Int), .slice x.A x.d.length x.c] : List Value)[j]? = some v → w4.drew.cell? ((ad.add (i * 2)).add j) = some v from HQ4.out)
            have HCH5 := Lib.hid (show ∀ j v, (cs8 S)[j]? = some v → w4.drew.cell? ((a10.add (nn * 32)).add j) = some v from HCH4.out)
            have HT5 := Lib.hid (show (ad.add (i * 2)).block < w4.drew.heap.size from hT1)
            have HTA5 := Lib.hid (show (a10.add (nn * 32)).block < w4.drew.heap.size from hTA)
            have HI5 := Lib.hid (HI4.out.keep (Below.refl _ w4).drew)
            have HG5 := Lib.hid HGg.out.drew
            have HX5 := Lib.hid (show Rd w4.drew w4.drew.heap.size x.A x.d.length x.c x.d from HX4.out.below (Below.refl _ w4).drew)
            have HRD5 := Lib.hid (show Rd w4.drew w4.drew.heap.size A5 R2.length c5 R2 from HRD.out.below (Below.refl _ w4).drew)
            clear hT1 hTA HQ4 HCH4 HI4 HGg HX4 HRD
            generalize w4.drew = w5 at HQ5 HCH5 HT5 HTA5 HI5 HG5 HX5 HRD5 ⊢
            refine reg_take (v := .slice A5 R2.length c5) hR 0 rfl (by kernel_rfl) (by kernel_rfl) (by kernel_rfl) (fun _ _ _ h => h) (by rfl) ?_ ?_
            · intro W hW; go_simp; try with_reducible rfl
            try simp only [Act.put, List.getElem_toArray, List.getElem_cons_succ, List.getElem_cons_zero, List.setIfInBounds_toArray, List.set_cons_zero, List.set_cons_succ]
            refine reg_take (v := .int .i64 (R2.length : Int)) hR 1 rfl (by kernel_rfl) (by kernel_rfl) (by kernel_rfl) (fun _ _ _ h => h) (by rfl) ?_ ?_
            · intro W hW; go_simp; try with_reducible rfl
            try simp only [Act.put, List.getElem_toArray, List.getElem_cons_succ, List.getElem_cons_zero, List.setIfInBounds_toArray, List.set_cons_zero, List.set_cons_succ]
            refine reg_take (v := .slice (some ad) n0 c0) hR 2 rfl (by kernel_rfl) (by kernel_rfl) (by kernel_rfl) (fun _ _ _ h => h) (by rfl) ?_ ?_
            · intro W hW; go_simp; try with_reducible rfl
            try simp only [Act.put, List.getElem_toArray, List.getElem_cons_succ, List.getElem_cons_zero, List.setIfInBounds_toArray, List.set_cons_zero, List.set_cons_succ]
            refine reg_take (v := .int .i64 (i : Int)) hR 3 rfl (by kernel_rfl) (by kernel_rfl) (by kernel_rfl) (fun _ _ _ h => h) (by rfl) ?_ ?_
            · intro W hW; go_simp; try with_reducible rfl
            try simp only [Act.put, List.getElem_toArray, List.getElem_cons_succ, List.getElem_cons_zero, List.setIfInBounds_toArray, List.set_cons_zero, List.set_cons_succ]
            refine reg_take (v := .pointer (some (ad.add (i * 2)))) hR 4 rfl (by kernel_rfl) (by kernel_rfl) (by kernel_rfl) (fun _ _ _ h => h) (by rfl) ?_ ?_
            · intro W hW; go_simp; try with_reducible rfl
            try simp only [Act.put, List.getElem_toArray, List.getElem_cons_succ, List.getElem_cons_zero, List.setIfInBounds_toArray, List.set_cons_zero, List.set_cons_succ]
            refine reg_take (v := .agg #[.int .u8 (x.k.toNat : Int), .slice x.A x.d.length x.c]) hR 5 rfl (by kernel_rfl) (by kernel_rfl) (by kernel_rfl) (fun _ _ _ h => h) (by rfl) ?_ ?_
            · intro W hW; exact exec_load_at 31 _ rfl (ad.add (i * 2)) rfl [.int .u8 (x.k.toNat : Int), .slice x.A x.d.length x.c] _ (cells_keep HQ5.out HT5.out hW) Try.underlying31 rfl info31
            try simp only [Act.put, List.getElem_toArray, List.getElem_cons_succ, List.getElem_cons_zero, List.setIfInBounds_toArray, List.set_cons_zero, List.set_cons_succ]
            have hsg := Size_good (A := x.A) (n := x.d.length) (c := x.c) (k := x.k) w5 HV.out.1 HV.out.2
            rw [HSZ.out] at hsg
            have HSG := Lib.hid hsg
            clear hsg
            refine reg_step hR 6 (by kernel_rfl) rfl fun K hK => ?_
            try simp only [Act.put, List.getElem_toArray, List.getElem_cons_succ, List.getElem_cons_zero, List.setIfInBounds_toArray, List.set_cons_zero, List.set_cons_succ]
            go_simp
            refine HSG.out.mono ?_; rintro e w6 ⟨rfl, hb⟩
            refine hK.out _ _ hb ?_
            have HQ6 := Lib.hid (cells_keep HQ5.out HT5.out hb)
            have HCH6 := Lib.hid (cells_keep HCH5.out HTA5.out hb)
            have HT6 := Lib.hid (Nat.lt_of_lt_of_le HT5.out hb.size)
            have HTA6 := Lib.hid (Nat.lt_of_lt_of_le HTA5.out hb.size)
            have HI6 := Lib.hid (HI5.out.keep hb)
            have HG6 := Lib.hid (HG5.out.keep hb)
            have HX6 := Lib.hid (HX5.out.top hb)
            have HRD6 := Lib.hid (HRD5.out.top hb)
            clear hb HSG HQ5 HCH5 HT5 HTA5 HI5 HG5 HX5 HRD5
            clear hK K
            try simp only [Act.put, List.getElem_toArray, List.getElem_cons_succ, List.getElem_cons_zero, List.setIfInBounds_toArray, List.set_cons_zero, List.set_cons_succ]
            refine reg_take (v := .bool false) hR 7 rfl (by kernel_rfl) (by kernel_rfl) (by kernel_rfl) (fun _ _ _ h => h) (by rfl) ?_ ?_
            · intro W hW; go_simp; try with_reducible rfl
            try simp only [Act.put, List.getElem_toArray, List.getElem_cons_succ, List.getElem_cons_zero, List.setIfInBounds_toArray, List.set_cons_zero, List.set_cons_succ]
            refine reg_take (v := .bool false) hR 8 rfl (by kernel_rfl) (by kernel_rfl) (by kernel_rfl) (fun _ _ _ h => h) (by rfl) ?_ ?_
            · intro W hW; go_simp; try with_reducible rfl
            try simp only [Act.put, List.getElem_toArray, List.getElem_cons_succ, List.getElem_cons_zero, List.setIfInBounds_toArray, List.set_cons_zero, List.set_cons_succ]
            refine reg_take (v := .agg (cs8 S2).toArray) hR 9 rfl (by kernel_rfl) (by kernel_rfl) (by kernel_rfl) (fun _ _ _ h => h) (by rfl) ?_ ?_
            · intro W hW; exact exec_load_at 23 _ rfl ⟨g, 0, none⟩ rfl (cs8 S2) _ (HG6.out.keep hW).at_ Try.underlying23 rfl (by rw [HS28.out]; exact info36)
            try simp only [Act.put, List.getElem_toArray, List.getElem_cons_succ, List.getElem_cons_zero, List.setIfInBounds_toArray, List.set_cons_zero, List.set_cons_succ]
            refine reg_take (v := .slice (some a10) (nn + 1) k10) hR 10 rfl (by kernel_rfl) (by kernel_rfl) (by kernel_rfl) (fun _ _ _ h => h) (by rfl) ?_ ?_
            · intro W hW; go_simp; try with_reducible rfl
            try simp only [Act.put, List.getElem_toArray, List.getElem_cons_succ, List.getElem_cons_zero, List.setIfInBounds_toArray, List.set_cons_zero, List.set_cons_succ]
            refine reg_take (v := .slice (some a10) (nn + 1) k10) hR 11 rfl (by kernel_rfl) (by kernel_rfl) (by kernel_rfl) (fun _ _ _ h => h) (by rfl) ?_ ?_
            · intro W hW; go_simp; try with_reducible rfl
            try simp only [Act.put, List.getElem_toArray, List.getElem_cons_succ, List.getElem_cons_zero, List.setIfInBounds_toArray, List.set_cons_zero, List.set_cons_succ]
            refine reg_take (v := .int .i64 ((nn + 1 : Nat) : Int)) hR 12 rfl (by kernel_rfl) (by kernel_rfl) (by kernel_rfl) (fun _ _ _ h => h) (by rfl) ?_ ?_
            · intro W hW; go_simp; try with_reducible rfl
            try simp only [Act.put, List.getElem_toArray, List.getElem_cons_succ, List.getElem_cons_zero, List.setIfInBounds_toArray, List.set_cons_zero, List.set_cons_succ]
            refine reg_take (v := .int .i64 (nn : Int)) hR 13 rfl (by kernel_rfl) (by kernel_rfl) (by kernel_rfl) (fun _ _ _ h => h) (by rfl) ?_ ?_
            · intro W hW; go_simp; rw [IntWalk.i64_in _ (by omega)]; try omega
            try simp only [Act.put, List.getElem_toArray, List.getElem_cons_succ, List.getElem_cons_zero, List.setIfInBounds_toArray, List.set_cons_zero, List.set_cons_succ]
            refine reg_take (v := .pointer (some (a10.add (nn * 32)))) hR 14 rfl (by kernel_rfl) (by kernel_rfl) (by kernel_rfl) (fun _ _ _ h => h) (by rfl) ?_ ?_
            · intro W hW; go_simp; intro h; omega
            try simp only [Act.put, List.getElem_toArray, List.getElem_cons_succ, List.getElem_cons_zero, List.setIfInBounds_toArray, List.set_cons_zero, List.set_cons_succ]
            refine reg_take (v := .agg (cs8 S).toArray) hR 15 rfl (by kernel_rfl) (by kernel_rfl) (by kernel_rfl) (fun _ _ _ h => h) (by rfl) ?_ ?_
            · intro W hW; exact exec_load_at 23 _ rfl (a10.add (nn * 32)) rfl (cs8 S) _ (cells_keep HCH6.out HTA6.out hW) Try.underlying23 rfl (by rw [HS8.out]; exact info36)
            try simp only [Act.put, List.getElem_toArray, List.getElem_cons_succ, List.getElem_cons_zero, List.setIfInBounds_toArray, List.set_cons_zero, List.set_cons_succ]
            refine reg_take (v := .slice (some ad) n0 c0) hR 16 rfl (by kernel_rfl) (by kernel_rfl) (by kernel_rfl) (fun _ _ _ h => h) (by rfl) ?_ ?_
            · intro W hW; go_simp; try with_reducible rfl
            try simp only [Act.put, List.getElem_toArray, List.getElem_cons_succ, List.getElem_cons_zero, List.setIfInBounds_toArray, List.set_cons_zero, List.set_cons_succ]
            refine reg_take (v := .int .i64 (i : Int)) hR 17 rfl (by kernel_rfl) (by kernel_rfl) (by kernel_rfl) (fun _ _ _ h => h) (by rfl) ?_ ?_
            · intro W hW; go_simp; try with_reducible rfl
            try simp only [Act.put, List.getElem_toArray, List.getElem_cons_succ, List.getElem_cons_zero, List.setIfInBounds_toArray, List.set_cons_zero, List.set_cons_succ]
            refine reg_take (v := .pointer (some (ad.add (i * 2)))) hR 18 rfl (by kernel_rfl) (by kernel_rfl) (by kernel_rfl) (fun _ _ _ h => h) (by rfl) ?_ ?_
            · intro W hW; go_simp; try with_reducible rfl
            try simp only [Act.put, List.getElem_toArray, List.getElem_cons_succ, List.getElem_cons_zero, List.setIfInBounds_toArray, List.set_cons_zero, List.set_cons_succ]
            refine reg_take (v := .agg #[.int .u8 (x.k.toNat : Int), .slice x.A x.d.length x.c]) hR 19 rfl (by kernel_rfl) (by kernel_rfl) (by kernel_rfl) (fun _ _ _ h => h) (by rfl) ?_ ?_
            · intro W hW; exact exec_load_at 31 _ rfl (ad.add (i * 2)) rfl [.int .u8 (x.k.toNat : Int), .slice x.A x.d.length x.c] _ (cells_keep HQ6.out HT6.out hW) Try.underlying31 rfl info31
            try simp only [Act.put, List.getElem_toArray, List.getElem_cons_succ, List.getElem_cons_zero, List.setIfInBounds_toArray, List.set_cons_zero, List.set_cons_succ]
            have hng := Next_any x.k w6 HS32.out HX6.out (by have := HV.out.2; omega)
            rw [← HS2E.out] at hng
            have HNG := Lib.hid hng
            have HARR := Lib.hid (arr_same HS232.out)
            clear hng
            refine reg_step hR 20 (by kernel_rfl) rfl fun K hK => ?_
            try simp only [Act.put, List.getElem_toArray, List.getElem_cons_succ, List.getElem_cons_zero, List.setIfInBounds_toArray, List.set_cons_zero, List.set_cons_succ]
            go_simp
            refine HNG.out.mono ?_; rintro e w7 ⟨rfl, hb⟩
            refine hK.out _ _ hb ?_
            have HQ7 := Lib.hid (cells_keep HQ6.out HT6.out hb)
            have HT7 := Lib.hid (Nat.lt_of_lt_of_le HT6.out hb.size)
            have HI7 := Lib.hid (HI6.out.keep hb)
            have HG7 := Lib.hid (HG6.out.keep hb)
            have HRD7 := Lib.hid (HRD6.out.top hb)
            clear hb HNG HQ6 HCH6 HT6 HTA6 HI6 HG6 HX6 HRD6
            clear hK K
            try simp only [Act.put, List.getElem_toArray, List.getElem_cons_succ, List.getElem_cons_zero, List.setIfInBounds_toArray, List.set_cons_zero, List.set_cons_succ]
            refine reg_take (v := .bool false) hR 21 rfl (by kernel_rfl) (by kernel_rfl) (by kernel_rfl) (fun _ _ _ h => h) (by rfl) ?_ ?_
            · intro W hW; have harr := HARR.out; go_simp; try with_reducible rfl
            try simp only [Act.put, List.getElem_toArray, List.getElem_cons_succ, List.getElem_cons_zero, List.setIfInBounds_toArray, List.set_cons_zero, List.set_cons_succ]
            refine reg_take (v := .bool false) hR 22 rfl (by kernel_rfl) (by kernel_rfl) (by kernel_rfl) (fun _ _ _ h => h) (by rfl) ?_ ?_
            · intro W hW; go_simp; try with_reducible rfl
            try simp only [Act.put, List.getElem_toArray, List.getElem_cons_succ, List.getElem_cons_zero, List.setIfInBounds_toArray, List.set_cons_zero, List.set_cons_succ]
            refine reg_done (by kernel_rfl) ?_ _
            clear HARR
            go_wp2
            refine region_meetQ (fun a0 a' w' => ∃ v7 v8 s, a' = puts a0 [(85, u7), (86, .slice A5 R2.length c5), (87, v7), (88, u8), (89, .slice (some ad) n0 c0), (90, .int .i64 (i : Int)), (91, .pointer (some (ad.add (i * 2)))), (92, .agg #[.int .u8 (x.k.toNat : Int), .slice x.A x.d.length x.c]), (93, .slice (some ⟨s, 0, none⟩) 1 1), (94, v8), (7, v7), (8, v8)] ∧ Hid (B4 w w' B l1 v7 (recsB l1 (r_ gv) ++ R2) v8 (nn + 1) (rvCells gv ++ [.int .u8 (x.k.toNat : Int), .slice x.A x.d.length x.c]) u9 (nn + 1) (endsOf l1 (r_ gv)) (.slice (some a10) (nn + 1) k10) (nn + 1) (chainsOf l1 (r_ gv))) ∧ Hid (Bk w' g (cs8 S2))) ?_ ?_
            · have hR := Kp.stays (fun k => Value.ownBlock u7 = some k ∨ Value.ownBlock u8 = some k)
              refine reg_start (Kp (fun k => Value.ownBlock u7 = some k ∨ Value.ownBlock u8 = some k)) follows_mixed ?_
              have HI := Lib.hid (HI7.out.keep (Below.refl _ w7).drew)
              have HG := Lib.hid HG7.out.drew
              have HRD := Lib.hid (HRD7.out.below (Below.refl _ w7).drew)
              have HQ := Lib.hid (show ∀ j v, ([.int .u8 (x.k.toNat : Int), .slice x.A x.d.length x.c] : List Value)[j]? = some v → w7.drew.cell? ((ad.add (i * 2)).add j) = some v from HQ7.out)
              have HT := Lib.hid (show (ad.add (i * 2)).block < w7.drew.heap.size from HT7.out)
              have HSD := Lib.hid (show w7.heap.size ≤ w7.drew.heap.size from Nat.le_refl _)
              generalize hgw : w7.drew = u0 at HI HG HRD HQ HT HSD ⊢
              clear hgw
              have HRD := Lib.hid (show Rd u0 u0.heap.size A5 R2.length c5 R2 from HRD.out.more (by have := HSD.out; omega))
              refine reg_take (v := u7) hR 0 rfl (by kernel_rfl) (by kernel_rfl) (by kernel_rfl) (fun _ _ _ h => by cases h.1) (by rfl) ?_ ?_
              · intro W hW; go_simp; try with_reducible rfl
              try simp only [Act.put, List.getElem_toArray, List.getElem_cons_succ, List.getElem_cons_zero, List.setIfInBounds_toArray, List.set_cons_zero, List.set_cons_succ]
              refine reg_take (v := .slice A5 R2.length c5) hR 1 rfl (by kernel_rfl) (by kernel_rfl) (by kernel_rfl) (fun _ _ _ h => by cases h.1) (by rfl) ?_ ?_
              · intro W hW; go_simp; try with_reducible rfl
              try simp only [Act.put, List.getElem_toArray, List.getElem_cons_succ, List.getElem_cons_zero, List.setIfInBounds_toArray, List.set_cons_zero, List.set_cons_succ]
              refine reg_take (v := u8) hR 3 rfl (by kernel_rfl) (by kernel_rfl) (by kernel_rfl) (fun _ _ _ h => by cases h.1) (by rfl) ?_ ?_
              · intro W hW; go_simp; try with_reducible rfl
              try simp only [Act.put, List.getElem_toArray, List.getElem_cons_succ, List.getElem_cons_zero, List.setIfInBounds_toArray, List.set_cons_zero, List.set_cons_succ]
              refine reg_take (v := .slice (some ad) n0 c0) hR 4 rfl (by kernel_rfl) (by kernel_rfl) (by kernel_rfl) (fun _ _ _ h => by cases h.1) (by rfl) ?_ ?_
              · intro W hW; go_simp; try with_reducible rfl
              try simp only [Act.put, List.getElem_toArray, List.getElem_cons_succ, List.getElem_cons_zero, List.setIfInBounds_toArray, List.set_cons_zero, List.set_cons_succ]
              refine reg_take (v := .int .i64 (i : Int)) hR 5 rfl (by kernel_rfl) (by kernel_rfl) (by kernel_rfl) (fun _ _ _ h => by cases h.1) (by rfl) ?_ ?_
              · intro W hW; go_simp; try with_reducible rfl
              try simp only [Act.put, List.getElem_toArray, List.getElem_cons_succ, List.getElem_cons_zero, List.setIfInBounds_toArray, List.set_cons_zero, List.set_cons_succ]
              refine reg_take (v := .pointer (some (ad.add (i * 2)))) hR 6 rfl (by kernel_rfl) (by kernel_rfl) (by kernel_rfl) (fun _ _ _ h => by cases h.1) (by rfl) ?_ ?_
              · intro W hW; go_simp; try with_reducible rfl
              try simp only [Act.put, List.getElem_toArray, List.getElem_cons_succ, List.getElem_cons_zero, List.setIfInBounds_toArray, List.set_cons_zero, List.set_cons_succ]
              refine reg_take (v := .agg #[.int .u8 (x.k.toNat : Int), .slice x.A x.d.length x.c]) hR 7 rfl (by kernel_rfl) (by kernel_rfl) (by kernel_rfl) (fun _ _ _ h => by cases h.1) (by rfl) ?_ ?_
              · intro W hW; exact exec_load_at 31 _ rfl (ad.add (i * 2)) rfl [.int .u8 (x.k.toNat : Int), .slice x.A x.d.length x.c] _ (fun j v hv => (hW.cell (p := (ad.add (i * 2)).add j) (by rw [add_block]; exact HT.out) (by rw [add_block]; exact HNA.out)).trans (HQ.out j v hv)) Try.underlying31 rfl info31
              try simp only [Act.put, List.getElem_toArray, List.getElem_cons_succ, List.getElem_cons_zero, List.setIfInBounds_toArray, List.set_cons_zero, List.set_cons_succ]
              refine reg_fork (rs := [2, 8]) hR (by kernel_rfl) (by simp) ?_
              intro i hi; simp only [List.mem_cons, List.not_mem_nil, or_false] at hi
              rcases hi with rfl | rfl
              · refine ⟨_, rfl, fun K hK => ?_⟩
                try simp only [Act.put, List.getElem_toArray, List.getElem_cons_succ, List.getElem_cons_zero, List.setIfInBounds_toArray, List.set_cons_zero, List.set_cons_succ]
                rw [if_pos (by rfl)]
                refine wp_app2 _ _ rfl rfl HI.out.b rfl HRD.out (by have := HLB.out; have := HR28.out; omega) HI.out.le ?_
                intro v7 u1 ho hg hv
                refine hK.out _ _ (kp_grown hg (fun k e => .inl e)) ?_
                clear hK K
                have HI := Lib.hid (HI.out.app7 ho hg hv)
                have HG := Lib.hid (Bk.grow HG.out hg HNg7.out)
                clear ho hg hv
                try simp only [Act.put, List.getElem_toArray, List.getElem_cons_succ, List.getElem_cons_zero, List.setIfInBounds_toArray, List.set_cons_zero, List.set_cons_succ]
                refine reg_step hR 8 (by kernel_rfl) rfl fun K hK => ?_
                try simp only [Act.put, List.getElem_toArray, List.getElem_cons_succ, List.getElem_cons_zero, List.setIfInBounds_toArray, List.set_cons_zero, List.set_cons_succ]
                rw [if_pos (by rfl)]
                refine wp_build1 (T := 39) (E := 31) Try.underlying39 info_rec (by decide) (by decide) _ rfl (.agg #[.int .u8 (x.k.toNat : Int), .slice x.A x.d.length x.c]) [.int .u8 (x.k.toNat : Int), .slice x.A x.d.length x.c] rfl rfl rfl ?_
                refine hK.out _ _ (Kp.of_old (bl_alloc (bl0 _) _)) ?_
                clear hK K
                have HGs := Lib.hid (Bk.new u1 ([.int .u8 (x.k.toNat : Int), .slice x.A x.d.length x.c] : List Value) 31)
                have HN8s := Lib.hid (show Value.ownBlock u8 ≠ some u1.heap.size from fun e => by have := (World.ownsRow.lt HI.out.g _ e).2; omega)
                have HI := Lib.hid (HI.out.keep (bl_alloc (bl0 u1) (.cells ([.int .u8 (x.k.toNat : Int), .slice x.A x.d.length x.c] : List Value).toArray 31)))
                have HG := Lib.hid (HG.out.old (.cells ([.int .u8 (x.k.toNat : Int), .slice x.A x.d.length x.c] : List Value).toArray 31))
                generalize hgw : u1.alloc (.cells ([.int .u8 (x.k.toNat : Int), .slice x.A x.d.length x.c] : List Value).toArray 31) = u2 at HGs HI HG  ⊢
                clear hgw
                generalize hgw : u1.heap.size = s at HGs HN8s ⊢
                clear hgw
                try simp only [Act.put, List.getElem_toArray, List.getElem_cons_succ, List.getElem_cons_zero, List.setIfInBounds_toArray, List.set_cons_zero, List.set_cons_succ]
                refine reg_step hR 9 (by kernel_rfl) rfl fun K hK => ?_
                try simp only [Act.put, List.getElem_toArray, List.getElem_cons_succ, List.getElem_cons_zero, List.setIfInBounds_toArray, List.set_cons_zero, List.set_cons_succ]
                rw [if_pos (by rfl)]
                refine wp_app_row (T := 39) (E := 31) Try.underlying39 info_rec rfl (by decide) (by decide) _ _ rfl rfl HI.out.g rfl HGs.out rfl (rec_cells1 _ _ _ _) (by omega) HI.out.le ?_
                intro v8 u3 ho hg hv
                refine hK.out _ _ (kp_grown hg (fun k e => .inr e)) ?_
                clear hK K
                have HI := Lib.hid (HI.out.app8 ho hg hv)
                have HG := Lib.hid (Bk.grow HG.out hg HNg8.out)
                clear ho hg hv
                try simp only [Act.put, List.getElem_toArray, List.getElem_cons_succ, List.getElem_cons_zero, List.setIfInBounds_toArray, List.set_cons_zero, List.set_cons_succ]
                refine reg_take (v := v7) hR 10 rfl (by kernel_rfl) (by kernel_rfl) (by kernel_rfl) (fun _ _ _ h => by cases h.1) (by rfl) ?_ ?_
                · intro W hW; go_simp; try with_reducible rfl
                try simp only [Act.put, List.getElem_toArray, List.getElem_cons_succ, List.getElem_cons_zero, List.setIfInBounds_toArray, List.set_cons_zero, List.set_cons_succ]
                refine reg_take (v := v8) hR 11 rfl (by kernel_rfl) (by kernel_rfl) (by kernel_rfl) (fun _ _ _ h => by cases h.1) (by rfl) ?_ ?_
                · intro W hW; go_simp; try with_reducible rfl
                try simp only [Act.put, List.getElem_toArray, List.getElem_cons_succ, List.getElem_cons_zero, List.setIfInBounds_toArray, List.set_cons_zero, List.set_cons_succ]
                refine reg_done (by kernel_rfl) ?_ _
                refine ⟨rfl, v7, v8, s, ?_, HI, HG⟩
                simp only [puts, List.foldl_cons, List.foldl_nil, Act.put, List.getElem_toArray, List.getElem_cons_succ, List.getElem_cons_zero, List.setIfInBounds_toArray, List.set_cons_zero, List.set_cons_succ]
              · refine ⟨_, rfl, fun K hK => ?_⟩
                try simp only [Act.put, List.getElem_toArray, List.getElem_cons_succ, List.getElem_cons_zero, List.setIfInBounds_toArray, List.set_cons_zero, List.set_cons_succ]
                rw [if_pos (by rfl)]
                refine wp_build1 (T := 39) (E := 31) Try.underlying39 info_rec (by decide) (by decide) _ rfl (.agg #[.int .u8 (x.k.toNat : Int), .slice x.A x.d.length x.c]) [.int .u8 (x.k.toNat : Int), .slice x.A x.d.length x.c] rfl rfl rfl ?_
                refine hK.out _ _ (Kp.of_old (bl_alloc (bl0 _) _)) ?_
                clear hK K
                have HGs := Lib.hid (Bk.new u0 ([.int .u8 (x.k.toNat : Int), .slice x.A x.d.length x.c] : List Value) 31)
                have HN8s := Lib.hid (show Value.ownBlock u8 ≠ some u0.heap.size from fun e => by have := (World.ownsRow.lt HI.out.g _ e).2; omega)
                have HN7s := Lib.hid (show Value.ownBlock u7 ≠ some u0.heap.size from fun e => by have := (World.ownsRow.lt HI.out.b _ e).2; omega)
                have HRD := Lib.hid (HRD.out.top (bl_alloc (bl0 u0) (.cells ([.int .u8 (x.k.toNat : Int), .slice x.A x.d.length x.c] : List Value).toArray 31)))
                have HI := Lib.hid (HI.out.keep (bl_alloc (bl0 u0) (.cells ([.int .u8 (x.k.toNat : Int), .slice x.A x.d.length x.c] : List Value).toArray 31)))
                have HG := Lib.hid (HG.out.old (.cells ([.int .u8 (x.k.toNat : Int), .slice x.A x.d.length x.c] : List Value).toArray 31))
                generalize hgw : u0.alloc (.cells ([.int .u8 (x.k.toNat : Int), .slice x.A x.d.length x.c] : List Value).toArray 31) = u1 at HGs HI HG HRD ⊢
                clear hgw
                generalize hgw : u0.heap.size = s at HGs HN8s HN7s ⊢
                clear hgw
                try simp only [Act.put, List.getElem_toArray, List.getElem_cons_succ, List.getElem_cons_zero, List.setIfInBounds_toArray, List.set_cons_zero, List.set_cons_succ]
                refine reg_step hR 2 (by kernel_rfl) rfl fun K hK => ?_
                try simp only [Act.put, List.getElem_toArray, List.getElem_cons_succ, List.getElem_cons_zero, List.setIfInBounds_toArray, List.set_cons_zero, List.set_cons_succ]
                rw [if_pos (by rfl)]
                refine wp_app2 _ _ rfl rfl HI.out.b rfl HRD.out (by have := HLB.out; have := HR28.out; omega) HI.out.le ?_
                intro v7 u2 ho hg hv
                refine hK.out _ _ (kp_grown hg (fun k e => .inl e)) ?_
                clear hK K
                have HI := Lib.hid (HI.out.app7 ho hg hv)
                have HG := Lib.hid (Bk.grow HG.out hg HNg7.out)
                have HGs := Lib.hid (Bk.grow HGs.out hg HN7s.out)
                clear ho hg hv
                try simp only [Act.put, List.getElem_toArray, List.getElem_cons_succ, List.getElem_cons_zero, List.setIfInBounds_toArray, List.set_cons_zero, List.set_cons_succ]
                refine reg_step hR 9 (by kernel_rfl) rfl fun K hK => ?_
                try simp only [Act.put, List.getElem_toArray, List.getElem_cons_succ, List.getElem_cons_zero, List.setIfInBounds_toArray, List.set_cons_zero, List.set_cons_succ]
                rw [if_pos (by rfl)]
                refine wp_app_row (T := 39) (E := 31) Try.underlying39 info_rec rfl (by decide) (by decide) _ _ rfl rfl HI.out.g rfl HGs.out rfl (rec_cells1 _ _ _ _) (by omega) HI.out.le ?_
                intro v8 u3 ho hg hv
                refine hK.out _ _ (kp_grown hg (fun k e => .inr e)) ?_
                clear hK K
                have HI := Lib.hid (HI.out.app8 ho hg hv)
                have HG := Lib.hid (Bk.grow HG.out hg HNg8.out)
                clear ho hg hv
                try simp only [Act.put, List.getElem_toArray, List.getElem_cons_succ, List.getElem_cons_zero, List.setIfInBounds_toArray, List.set_cons_zero, List.set_cons_succ]
                refine reg_take (v := v7) hR 10 rfl (by kernel_rfl) (by kernel_rfl) (by kernel_rfl) (fun _ _ _ h => by cases h.1) (by rfl) ?_ ?_
                · intro W hW; go_simp; try with_reducible rfl
                try simp only [Act.put, List.getElem_toArray, List.getElem_cons_succ, List.getElem_cons_zero, List.setIfInBounds_toArray, List.set_cons_zero, List.set_cons_succ]
                refine reg_take (v := v8) hR 11 rfl (by kernel_rfl) (by kernel_rfl) (by kernel_rfl) (fun _ _ _ h => by cases h.1) (by rfl) ?_ ?_
                · intro W hW; go_simp; try with_reducible rfl
                try simp only [Act.put, List.getElem_toArray, List.getElem_cons_succ, List.getElem_cons_zero, List.setIfInBounds_toArray, List.set_cons_zero, List.set_cons_succ]
                refine reg_done (by kernel_rfl) ?_ _
                refine ⟨rfl, v7, v8, s, ?_, HI, HG⟩
                simp only [puts, List.foldl_cons, List.foldl_nil, Act.put, List.getElem_toArray, List.getElem_cons_succ, List.getElem_cons_zero, List.setIfInBounds_toArray, List.set_cons_zero, List.set_cons_succ]
            · rintro a' w8 ⟨v7, v8, s, rfl, HI8, HG8⟩
              simp only [puts, List.foldl_cons, List.foldl_nil, Act.put, List.getElem_toArray, List.getElem_cons_succ, List.getElem_cons_zero, List.setIfInBounds_toArray, List.set_cons_zero, List.set_cons_succ]
              clear HI7 HG7 HRD7 HQ7 HT7
              obtain ⟨A7, c7, rfl, -⟩ := HI8.out.b.rd
              obtain ⟨L, hL⟩ : ∃ L, (recsB l1 (r_ gv) ++ R2).length = L := ⟨_, rfl⟩
              rw [hL] at HI8 ⊢
              have HL := Lib.hid hL
              clear hL
              go_wp2
              refine region_meetQ (fun a0 a' w' => ∃ v9 v10 s t, a' = puts a0 [(95, u9), (96, .slice A7 L c7), (97, .int .i64 (L : Int)), (98, .slice (some ⟨s, 0, none⟩) 1 1), (99, v9), (100, (.slice (some a10) (nn + 1) k10)), (101, .agg (cs8 S2).toArray), (102, .slice (some ⟨t, 0, none⟩) 1 1), (103, v10), (9, v9), (10, v10)] ∧ Hid (B4 w w' B l1 (.slice A7 L c7) (recsB l1 (r_ gv) ++ R2) v8 (nn + 1) (rvCells gv ++ [.int .u8 (x.k.toNat : Int), .slice x.A x.d.length x.c]) v9 (nn + 1 + 1) (endsOf l1 (r_ gv) ++ [.int .i64 (L : Int)]) v10 (nn + 1 + 1) (chainsOf l1 (r_ gv) ++ cs8 S2))) ?_ ?_
              · have hR := Kp.stays (fun k => Value.ownBlock u9 = some k ∨ Value.ownBlock (.slice (some a10) (nn + 1) k10) = some k)
                refine reg_start (Kp (fun k => Value.ownBlock u9 = some k ∨ Value.ownBlock (.slice (some a10) (nn + 1) k10) = some k)) follows_mixed ?_
                have HI := Lib.hid (HI8.out.keep (Below.refl _ w8).drew)
                have HG := Lib.hid HG8.out.drew
                have HNG := Lib.hid (not_or.2 ⟨HNg9.out, HNg10.out⟩)
                generalize hgw : w8.drew = u0 at HI HG ⊢
                clear hgw
                refine reg_take (v := u9) hR 0 rfl (by kernel_rfl) (by kernel_rfl) (by kernel_rfl) (fun _ _ _ h => by cases h.1) (by rfl) ?_ ?_
                · intro W hW; go_simp; try with_reducible rfl
                try simp only [Act.put, List.getElem_toArray, List.getElem_cons_succ, List.getElem_cons_zero, List.setIfInBounds_toArray, List.set_cons_zero, List.set_cons_succ]
                refine reg_take (v := .slice A7 L c7) hR 1 rfl (by kernel_rfl) (by kernel_rfl) (by kernel_rfl) (fun _ _ _ h => by cases h.1) (by rfl) ?_ ?_
                · intro W hW; go_simp; try with_reducible rfl
                try simp only [Act.put, List.getElem_toArray, List.getElem_cons_succ, List.getElem_cons_zero, List.setIfInBounds_toArray, List.set_cons_zero, List.set_cons_succ]
                refine reg_take (v := .int .i64 (L : Int)) hR 2 rfl (by kernel_rfl) (by kernel_rfl) (by kernel_rfl) (fun _ _ _ h => by cases h.1) (by rfl) ?_ ?_
                · intro W hW; go_simp; try with_reducible rfl
                try simp only [Act.put, List.getElem_toArray, List.getElem_cons_succ, List.getElem_cons_zero, List.setIfInBounds_toArray, List.set_cons_zero, List.set_cons_succ]
                refine reg_take (v := (.slice (some a10) (nn + 1) k10)) hR 5 rfl (by kernel_rfl) (by kernel_rfl) (by kernel_rfl) (fun _ _ _ h => by cases h.1) (by rfl) ?_ ?_
                · intro W hW; go_simp; try with_reducible rfl
                try simp only [Act.put, List.getElem_toArray, List.getElem_cons_succ, List.getElem_cons_zero, List.setIfInBounds_toArray, List.set_cons_zero, List.set_cons_succ]
                refine reg_take (v := .agg (cs8 S2).toArray) hR 6 rfl (by kernel_rfl) (by kernel_rfl) (by kernel_rfl) (fun _ _ _ h => by cases h.1) (by rfl) ?_ ?_
                · intro W hW; exact exec_load_at 23 _ rfl ⟨g, 0, none⟩ rfl (cs8 S2) _ (HG.out.kp hW HNG.out).at_ Try.underlying23 rfl (by rw [HS28.out]; exact info36)
                try simp only [Act.put, List.getElem_toArray, List.getElem_cons_succ, List.getElem_cons_zero, List.setIfInBounds_toArray, List.set_cons_zero, List.set_cons_succ]
                refine reg_fork (rs := [3, 7]) hR (by kernel_rfl) (by simp) ?_
                intro i hi; simp only [List.mem_cons, List.not_mem_nil, or_false] at hi
                rcases hi with rfl | rfl
                · refine ⟨_, rfl, fun K hK => ?_⟩
                  try simp only [Act.put, List.getElem_toArray, List.getElem_cons_succ, List.getElem_cons_zero, List.setIfInBounds_toArray, List.set_cons_zero, List.set_cons_succ]
                  rw [if_pos (by rfl)]
                  refine wp_build1 (T := 41) (E := 3) Try.underlying41 info_int (by decide) (by decide) _ rfl (.int .i64 (L : Int)) [.int .i64 (L : Int)] rfl rfl rfl ?_
                  refine hK.out _ _ (Kp.of_old (bl_alloc (bl0 _) _)) ?_
                  clear hK K
                  have HGs := Lib.hid (Bk.new u0 ([.int .i64 (L : Int)] : List Value) 3)
                  have HN9s := Lib.hid (show Value.ownBlock u9 ≠ some u0.heap.size from fun e => by have := (World.ownsRow.lt HI.out.e _ e).2; omega)
                  have HI := Lib.hid (HI.out.keep (bl_alloc (bl0 u0) (.cells ([.int .i64 (L : Int)] : List Value).toArray 3)))
                  generalize hgw : u0.alloc (.cells ([.int .i64 (L : Int)] : List Value).toArray 3) = u1 at HGs HI ⊢
                  clear hgw
                  generalize hgw : u0.heap.size = s at HGs HN9s ⊢
                  clear hgw
                  try simp only [Act.put, List.getElem_toArray, List.getElem_cons_succ, List.getElem_cons_zero, List.setIfInBounds_toArray, List.set_cons_zero, List.set_cons_succ]
                  refine reg_fork (rs := [4, 7]) hR (by kernel_rfl) (by simp) ?_
                  intro i hi; simp only [List.mem_cons, List.not_mem_nil, or_false] at hi
                  rcases hi with rfl | rfl
                  · refine ⟨_, rfl, fun K hK => ?_⟩
                    try simp only [Act.put, List.getElem_toArray, List.getElem_cons_succ, List.getElem_cons_zero, List.setIfInBounds_toArray, List.set_cons_zero, List.set_cons_succ]
                    rw [if_pos (by rfl)]
                    refine wp_app_row (T := 41) (E := 3) Try.underlying41 info_int rfl (by decide) (by decide) _ _ rfl rfl HI.out.e rfl HGs.out rfl (fun u hu => by simp at hu; subst hu; rfl) (by omega) HI.out.le ?_
                    intro v9 u2 ho hg hv
                    refine hK.out _ _ (kp_grown hg (fun k e => .inl e)) ?_
                    clear hK K
                    have HI := Lib.hid (HI.out.app9 ho hg hv)
                    clear ho hg hv HGs
                    try simp only [Act.put, List.getElem_toArray, List.getElem_cons_succ, List.getElem_cons_zero, List.setIfInBounds_toArray, List.set_cons_zero, List.set_cons_succ]
                    refine reg_step hR 7 (by kernel_rfl) rfl fun K hK => ?_
                    try simp only [Act.put, List.getElem_toArray, List.getElem_cons_succ, List.getElem_cons_zero, List.setIfInBounds_toArray, List.set_cons_zero, List.set_cons_succ]
                    rw [if_pos (by rfl)]
                    refine wp_build1 (T := 42) (E := 23) Try.underlying42 info_dig (by decide) (by decide) _ rfl (.agg (cs8 S2).toArray) (cs8 S2) rfl rfl HS28.out ?_
                    refine hK.out _ _ (Kp.of_old (bl_alloc (bl0 _) _)) ?_
                    clear hK K
                    have HGt := Lib.hid (Bk.new u2 ((cs8 S2) : List Value) 23)
                    have HI := Lib.hid (HI.out.keep (bl_alloc (bl0 u2) (.cells ((cs8 S2) : List Value).toArray 23)))
                    generalize hgw : u2.alloc (.cells ((cs8 S2) : List Value).toArray 23) = u3 at HGt HI ⊢
                    clear hgw
                    generalize hgw : u2.heap.size = t at HGt ⊢
                    clear hgw
                    try simp only [Act.put, List.getElem_toArray, List.getElem_cons_succ, List.getElem_cons_zero, List.setIfInBounds_toArray, List.set_cons_zero, List.set_cons_succ]
                    refine reg_step hR 8 (by kernel_rfl) rfl fun K hK => ?_
                    try simp only [Act.put, List.getElem_toArray, List.getElem_cons_succ, List.getElem_cons_zero, List.setIfInBounds_toArray, List.set_cons_zero, List.set_cons_succ]
                    rw [if_pos (by rfl)]
                    refine wp_app_row (T := 42) (E := 23) Try.underlying42 info_dig (by kernel_rfl) (by decide) (by decide) _ _ rfl rfl HI.out.c rfl HGt.out HS28.out (fun u hu => by obtain ⟨y, _, rfl⟩ := List.mem_map.1 hu; rfl) (by omega) HI.out.le ?_
                    intro v10 u4 ho hg hv
                    refine hK.out _ _ (kp_grown hg (fun k e => .inr e)) ?_
                    clear hK K
                    have HI := Lib.hid (HI.out.app10 ho hg hv)
                    clear ho hg hv
                    try simp only [Act.put, List.getElem_toArray, List.getElem_cons_succ, List.getElem_cons_zero, List.setIfInBounds_toArray, List.set_cons_zero, List.set_cons_succ]
                    refine reg_take (v := v9) hR 9 rfl (by kernel_rfl) (by kernel_rfl) (by kernel_rfl) (fun _ _ _ h => by cases h.1) (by rfl) ?_ ?_
                    · intro W hW; go_simp; try with_reducible rfl
                    try simp only [Act.put, List.getElem_toArray, List.getElem_cons_succ, List.getElem_cons_zero, List.setIfInBounds_toArray, List.set_cons_zero, List.set_cons_succ]
                    refine reg_take (v := v10) hR 10 rfl (by kernel_rfl) (by kernel_rfl) (by kernel_rfl) (fun _ _ _ h => by cases h.1) (by rfl) ?_ ?_
                    · intro W hW; go_simp; try with_reducible rfl
                    try simp only [Act.put, List.getElem_toArray, List.getElem_cons_succ, List.getElem_cons_zero, List.setIfInBounds_toArray, List.set_cons_zero, List.set_cons_succ]
                    refine reg_done (by kernel_rfl) ?_ _
                    refine ⟨rfl, v9, v10, s, t, ?_, HI⟩
                    simp only [puts, List.foldl_cons, List.foldl_nil, Act.put, List.getElem_toArray, List.getElem_cons_succ, List.getElem_cons_zero, List.setIfInBounds_toArray, List.set_cons_zero, List.set_cons_succ]
                  · refine ⟨_, rfl, fun K hK => ?_⟩
                    try simp only [Act.put, List.getElem_toArray, List.getElem_cons_succ, List.getElem_cons_zero, List.setIfInBounds_toArray, List.set_cons_zero, List.set_cons_succ]
                    rw [if_pos (by rfl)]
                    refine wp_build1 (T := 42) (E := 23) Try.underlying42 info_dig (by decide) (by decide) _ rfl (.agg (cs8 S2).toArray) (cs8 S2) rfl rfl HS28.out ?_
                    refine hK.out _ _ (Kp.of_old (bl_alloc (bl0 _) _)) ?_
                    clear hK K
                    have HGt := Lib.hid (Bk.new u1 ((cs8 S2) : List Value) 23)
                    have HN9t := Lib.hid (show Value.ownBlock u9 ≠ some u1.heap.size from fun e => by have := (World.ownsRow.lt HI.out.e _ e).2; omega)
                    have HGs := Lib.hid (HGs.out.old (.cells ((cs8 S2) : List Value).toArray 23))
                    have HI := Lib.hid (HI.out.keep (bl_alloc (bl0 u1) (.cells ((cs8 S2) : List Value).toArray 23)))
                    generalize hgw : u1.alloc (.cells ((cs8 S2) : List Value).toArray 23) = u2 at HGt HI HGs ⊢
                    clear hgw
                    generalize hgw : u1.heap.size = t at HGt HN9t ⊢
                    clear hgw
                    try simp only [Act.put, List.getElem_toArray, List.getElem_cons_succ, List.getElem_cons_zero, List.setIfInBounds_toArray, List.set_cons_zero, List.set_cons_succ]
                    refine reg_step hR 4 (by kernel_rfl) rfl fun K hK => ?_
                    try simp only [Act.put, List.getElem_toArray, List.getElem_cons_succ, List.getElem_cons_zero, List.setIfInBounds_toArray, List.set_cons_zero, List.set_cons_succ]
                    rw [if_pos (by rfl)]
                    refine wp_app_row (T := 41) (E := 3) Try.underlying41 info_int rfl (by decide) (by decide) _ _ rfl rfl HI.out.e rfl HGs.out rfl (fun u hu => by simp at hu; subst hu; rfl) (by omega) HI.out.le ?_
                    intro v9 u3 ho hg hv
                    refine hK.out _ _ (kp_grown hg (fun k e => .inl e)) ?_
                    clear hK K
                    have HI := Lib.hid (HI.out.app9 ho hg hv)
                    have HGt := Lib.hid (Bk.grow HGt.out hg HN9t.out)
                    clear ho hg hv HGs
                    try simp only [Act.put, List.getElem_toArray, List.getElem_cons_succ, List.getElem_cons_zero, List.setIfInBounds_toArray, List.set_cons_zero, List.set_cons_succ]
                    refine reg_step hR 8 (by kernel_rfl) rfl fun K hK => ?_
                    try simp only [Act.put, List.getElem_toArray, List.getElem_cons_succ, List.getElem_cons_zero, List.setIfInBounds_toArray, List.set_cons_zero, List.set_cons_succ]
                    rw [if_pos (by rfl)]
                    refine wp_app_row (T := 42) (E := 23) Try.underlying42 info_dig (by kernel_rfl) (by decide) (by decide) _ _ rfl rfl HI.out.c rfl HGt.out HS28.out (fun u hu => by obtain ⟨y, _, rfl⟩ := List.mem_map.1 hu; rfl) (by omega) HI.out.le ?_
                    intro v10 u4 ho hg hv
                    refine hK.out _ _ (kp_grown hg (fun k e => .inr e)) ?_
                    clear hK K
                    have HI := Lib.hid (HI.out.app10 ho hg hv)
                    clear ho hg hv
                    try simp only [Act.put, List.getElem_toArray, List.getElem_cons_succ, List.getElem_cons_zero, List.setIfInBounds_toArray, List.set_cons_zero, List.set_cons_succ]
                    refine reg_take (v := v9) hR 9 rfl (by kernel_rfl) (by kernel_rfl) (by kernel_rfl) (fun _ _ _ h => by cases h.1) (by rfl) ?_ ?_
                    · intro W hW; go_simp; try with_reducible rfl
                    try simp only [Act.put, List.getElem_toArray, List.getElem_cons_succ, List.getElem_cons_zero, List.setIfInBounds_toArray, List.set_cons_zero, List.set_cons_succ]
                    refine reg_take (v := v10) hR 10 rfl (by kernel_rfl) (by kernel_rfl) (by kernel_rfl) (fun _ _ _ h => by cases h.1) (by rfl) ?_ ?_
                    · intro W hW; go_simp; try with_reducible rfl
                    try simp only [Act.put, List.getElem_toArray, List.getElem_cons_succ, List.getElem_cons_zero, List.setIfInBounds_toArray, List.set_cons_zero, List.set_cons_succ]
                    refine reg_done (by kernel_rfl) ?_ _
                    refine ⟨rfl, v9, v10, s, t, ?_, HI⟩
                    simp only [puts, List.foldl_cons, List.foldl_nil, Act.put, List.getElem_toArray, List.getElem_cons_succ, List.getElem_cons_zero, List.setIfInBounds_toArray, List.set_cons_zero, List.set_cons_succ]
                · refine ⟨_, rfl, fun K hK => ?_⟩
                  try simp only [Act.put, List.getElem_toArray, List.getElem_cons_succ, List.getElem_cons_zero, List.setIfInBounds_toArray, List.set_cons_zero, List.set_cons_succ]
                  rw [if_pos (by rfl)]
                  refine wp_build1 (T := 42) (E := 23) Try.underlying42 info_dig (by decide) (by decide) _ rfl (.agg (cs8 S2).toArray) (cs8 S2) rfl rfl HS28.out ?_
                  refine hK.out _ _ (Kp.of_old (bl_alloc (bl0 _) _)) ?_
                  clear hK K
                  have HGt := Lib.hid (Bk.new u0 ((cs8 S2) : List Value) 23)
                  have HN9t := Lib.hid (show Value.ownBlock u9 ≠ some u0.heap.size from fun e => by have := (World.ownsRow.lt HI.out.e _ e).2; omega)
                  have HI := Lib.hid (HI.out.keep (bl_alloc (bl0 u0) (.cells ((cs8 S2) : List Value).toArray 23)))
                  generalize hgw : u0.alloc (.cells ((cs8 S2) : List Value).toArray 23) = u1 at HGt HI ⊢
                  clear hgw
                  generalize hgw : u0.heap.size = t at HGt HN9t ⊢
                  clear hgw
                  try simp only [Act.put, List.getElem_toArray, List.getElem_cons_succ, List.getElem_cons_zero, List.setIfInBounds_toArray, List.set_cons_zero, List.set_cons_succ]
                  refine reg_step hR 3 (by kernel_rfl) rfl fun K hK => ?_
                  try simp only [Act.put, List.getElem_toArray, List.getElem_cons_succ, List.getElem_cons_zero, List.setIfInBounds_toArray, List.set_cons_zero, List.set_cons_succ]
                  rw [if_pos (by rfl)]
                  refine wp_build1 (T := 41) (E := 3) Try.underlying41 info_int (by decide) (by decide) _ rfl (.int .i64 (L : Int)) [.int .i64 (L : Int)] rfl rfl rfl ?_
                  refine hK.out _ _ (Kp.of_old (bl_alloc (bl0 _) _)) ?_
                  clear hK K
                  have HGs := Lib.hid (Bk.new u1 ([.int .i64 (L : Int)] : List Value) 3)
                  have HN9s := Lib.hid (show Value.ownBlock u9 ≠ some u1.heap.size from fun e => by have := (World.ownsRow.lt HI.out.e _ e).2; omega)
                  have HGt := Lib.hid (HGt.out.old (.cells ([.int .i64 (L : Int)] : List Value).toArray 3))
                  have HI := Lib.hid (HI.out.keep (bl_alloc (bl0 u1) (.cells ([.int .i64 (L : Int)] : List Value).toArray 3)))
                  generalize hgw : u1.alloc (.cells ([.int .i64 (L : Int)] : List Value).toArray 3) = u2 at HGs HI HGt ⊢
                  clear hgw
                  generalize hgw : u1.heap.size = s at HGs HN9s ⊢
                  clear hgw
                  try simp only [Act.put, List.getElem_toArray, List.getElem_cons_succ, List.getElem_cons_zero, List.setIfInBounds_toArray, List.set_cons_zero, List.set_cons_succ]
                  refine reg_step hR 4 (by kernel_rfl) rfl fun K hK => ?_
                  try simp only [Act.put, List.getElem_toArray, List.getElem_cons_succ, List.getElem_cons_zero, List.setIfInBounds_toArray, List.set_cons_zero, List.set_cons_succ]
                  rw [if_pos (by rfl)]
                  refine wp_app_row (T := 41) (E := 3) Try.underlying41 info_int rfl (by decide) (by decide) _ _ rfl rfl HI.out.e rfl HGs.out rfl (fun u hu => by simp at hu; subst hu; rfl) (by omega) HI.out.le ?_
                  intro v9 u3 ho hg hv
                  refine hK.out _ _ (kp_grown hg (fun k e => .inl e)) ?_
                  clear hK K
                  have HI := Lib.hid (HI.out.app9 ho hg hv)
                  have HGt := Lib.hid (Bk.grow HGt.out hg HN9t.out)
                  clear ho hg hv HGs
                  try simp only [Act.put, List.getElem_toArray, List.getElem_cons_succ, List.getElem_cons_zero, List.setIfInBounds_toArray, List.set_cons_zero, List.set_cons_succ]
                  refine reg_step hR 8 (by kernel_rfl) rfl fun K hK => ?_
                  try simp only [Act.put, List.getElem_toArray, List.getElem_cons_succ, List.getElem_cons_zero, List.setIfInBounds_toArray, List.set_cons_zero, List.set_cons_succ]
                  rw [if_pos (by rfl)]
                  refine wp_app_row (T := 42) (E := 23) Try.underlying42 info_dig (by kernel_rfl) (by decide) (by decide) _ _ rfl rfl HI.out.c rfl HGt.out HS28.out (fun u hu => by obtain ⟨y, _, rfl⟩ := List.mem_map.1 hu; rfl) (by omega) HI.out.le ?_
                  intro v10 u4 ho hg hv
                  refine hK.out _ _ (kp_grown hg (fun k e => .inr e)) ?_
                  clear hK K
                  have HI := Lib.hid (HI.out.app10 ho hg hv)
                  clear ho hg hv
                  try simp only [Act.put, List.getElem_toArray, List.getElem_cons_succ, List.getElem_cons_zero, List.setIfInBounds_toArray, List.set_cons_zero, List.set_cons_succ]
                  refine reg_take (v := v9) hR 9 rfl (by kernel_rfl) (by kernel_rfl) (by kernel_rfl) (fun _ _ _ h => by cases h.1) (by rfl) ?_ ?_
                  · intro W hW; go_simp; try with_reducible rfl
                  try simp only [Act.put, List.getElem_toArray, List.getElem_cons_succ, List.getElem_cons_zero, List.setIfInBounds_toArray, List.set_cons_zero, List.set_cons_succ]
                  refine reg_take (v := v10) hR 10 rfl (by kernel_rfl) (by kernel_rfl) (by kernel_rfl) (fun _ _ _ h => by cases h.1) (by rfl) ?_ ?_
                  · intro W hW; go_simp; try with_reducible rfl
                  try simp only [Act.put, List.getElem_toArray, List.getElem_cons_succ, List.getElem_cons_zero, List.setIfInBounds_toArray, List.set_cons_zero, List.set_cons_succ]
                  refine reg_done (by kernel_rfl) ?_ _
                  refine ⟨rfl, v9, v10, s, t, ?_, HI⟩
                  simp only [puts, List.foldl_cons, List.foldl_nil, Act.put, List.getElem_toArray, List.getElem_cons_succ, List.getElem_cons_zero, List.setIfInBounds_toArray, List.set_cons_zero, List.set_cons_succ]
              · rintro a' w9 ⟨v9, v10, s', t, rfl, HI9⟩
                simp only [puts, List.foldl_cons, List.foldl_nil, Act.put, List.getElem_toArray, List.getElem_cons_succ, List.getElem_cons_zero, List.setIfInBounds_toArray, List.set_cons_zero, List.set_cons_succ]
                clear HI8 HG8
                go_wp2
                go_roundw
                case rel =>
                  have hr : r_ (gv ++ [x]) = r_ gv ++ [(x.k, x.d)] := by simp [r_, Rv.r]
                  have hb : recsB l1 (r_ (gv ++ [x])) = recsB l1 (r_ gv) ++ R2 := by rw [hr, recsB_append, HSS.out, HR2E.out]; simp [recsB]
                  have he : endR l1 (r_ (gv ++ [x])) = S2 := by rw [hr, endR_append, HSS.out, HS2E.out]; rfl
                  refine ⟨i + 1, nn + 1, gv ++ [x], by omega, by omega, by go_num, Lib.hid (by rw [List.length_append, HNN.out]; rfl), Lib.hid (fun r hr' => ?_), Lib.hid (fun y hy => ?_), Lib.hid ?_⟩
                  · rw [hr] at hr'
                    rcases List.mem_append.1 hr' with h | h
                    · exact HVS.out r h
                    · rw [List.mem_singleton] at h; subst h; exact HV.out
                  · rcases List.mem_append.1 hy with h | h
                    · exact HOK.out y h
                    · rw [List.mem_singleton] at h; subst h; exact HXM.out
                  · have e1 : endsOf l1 (r_ (gv ++ [x])) = endsOf l1 (r_ gv) ++ [.int .i64 (L : Int)] := by rw [hr, endsOf_snoc, ← hr, hb, HL.out]
                    have e2 : chainsOf l1 (r_ (gv ++ [x])) = chainsOf l1 (r_ gv) ++ cs8 S2 := by rw [hr, chainsOf_snoc, ← hr, he]
                    have e3 : rvCells (gv ++ [x]) = rvCells gv ++ [.int .u8 (x.k.toNat : Int), .slice x.A x.d.length x.c] := by simp [rvCells, Rv.cells]
                    rw [hb, e1, e2, e3]
                    exact HI9.out
                case measure => simp [RowKit.intOf]; omega
          · have HNV := Lib.hid hv
            clear hv
            go_wp2_with (first | (refine wpList_load_at rfl 31 _ rfl (ad.add (i * 2)) rfl [.int .u8 (x.k.toNat : Int), .slice x.A x.d.length x.c] _ HQ4.out Try.underlying31 rfl info31 ?_) | fail)
            refine (Check_bad w4 (fun h => HNV.out ⟨h.1, h.2⟩)).mono ?_; rintro e w5 ⟨rfl, hb⟩
            have HI5 := Lib.hid (HI4.out.keep hb)
            clear hb HI4 HI
            go_wp2
            go_roundw
            case rel => exact ⟨i + 1, nn, gv, by omega, by omega, by go_num, HNN, HVS, HOK, HI5⟩
            case measure => simp [RowKit.intOf]; omega
      · obtain rfl : i = n0 := by omega
        have hLB : (recsB l1 (r_ gv)).length ≤ 400000 := by
          have h1 := recs_le l1 (r_ gv) HVS.out
          have h2 : (r_ gv).length * 8210 ≤ 40 * 8210 := Nat.mul_le_mul_right _ (by rw [r_, List.length_map]; have := HNN.out; omega)
          omega
        obtain ⟨A7, c7, rfl, hrd⟩ := HI.out.b.rd
        have hok : ∀ x ∈ gv, x.ok wr wr.heap.size := fun x hx => ((HOK.out x hx).below HI.out.bel).more HI.out.bel.size
        obtain ⟨A8, c8, rfl, hrs⟩ := Rs.row HI.out.g HNN.out hok
        obtain ⟨g9, k9, rfl, -, -⟩ := World.ownsRow.form HI.out.e (show 0 < nn + 1 by omega)
        obtain ⟨g10, k10, rfl, -, -⟩ := World.ownsRow.form HI.out.c (show 0 < nn + 1 by omega)
        have hrl : (r_ gv).length = nn := by rw [r_, List.length_map]; exact HNN.out
        have hce : ∀ j, j ≤ nn → wr.cell? ((⟨g9, 0, none⟩ : Addr).add j) = some (.int .i64 ((recsB l1 ((r_ gv).take j)).length : Int)) := fun j hj =>
          World.ownsRow.cells HI.out.e (g := g9) rfl _ _ (endsOf_at l1 (r_ gv) j (by omega))
        have hcc : ∀ m, m ≤ nn → ∀ j v, (cs8 (endR l1 ((r_ gv).take m)))[j]? = some v → wr.cell? (((⟨g10, 0, none⟩ : Addr).add (m * 32)).add j) = some v := fun m hm j v hv => by
          rw [add_add]
          exact World.ownsRow.cells HI.out.c (g := g10) rfl _ _ (chainsOf_at l1 HC.out (r_ gv) m (by omega) j v hv)
        obtain ⟨a9, ha9⟩ : ∃ a : Addr, (⟨g9, 0, none⟩ : Addr) = a := ⟨_, rfl⟩
        obtain ⟨a10, ha10⟩ : ∃ a : Addr, (⟨g10, 0, none⟩ : Addr) = a := ⟨_, rfl⟩
        have HT9 := Lib.hid (show a9.block < wr.heap.size by rw [← ha9]; exact (World.ownsRow.lt HI.out.e g9 rfl).2)
        have HT10 := Lib.hid (show a10.block < wr.heap.size by rw [← ha10]; exact (World.ownsRow.lt HI.out.c g10 rfl).2)
        have HBL := Lib.hid HI.out.bel
        have H4 := Lib.hid HI.out.c4
        rw [ha9] at hce ⊢
        rw [ha10] at hcc ⊢
        have HCE := Lib.hid hce
        have HCH := Lib.hid hcc
        have HRS := Lib.hid hrs
        have HRL := Lib.hid hrl
        obtain ⟨L, hL⟩ : ∃ L, (recsB l1 (r_ gv)).length = L := ⟨_, rfl⟩
        rw [hL] at hrd hLB ⊢
        have HRD := Lib.hid hrd
        have HLL := Lib.hid hL
        clear hrd hok hrs hrl hce hcc ha9 ha10 hL HI
        have hn40 : nn ≤ 40 := by omega
        have hp := Pick_any cut (L + 1) (by omega) (by omega) wr
        rw [show ((L + 1 : Nat) : Int) = (L : Int) + 1 from by simp] at hp
        go_wp2_with fail
        refine hp.mono ?_; rintro e w' ⟨⟨r, hr, rfl⟩, rfl⟩
        rename World => wr
        clear hp
        go_wp2
        go_loopw [15] (fun v15 w' => ∃ k : Nat, k ≤ nn ∧ v15 = .int .i64 (k : Int) ∧ Hid ((recsB l1 ((r_ gv).take k)).length ≤ r) ∧ w' = wr) (fun v15 _ => nn - (RowKit.intOf v15).toNat)
        case atStart => exact ⟨0, by omega, rfl, Lib.hid (by simp [recsB]), rfl⟩
        case round =>
          obtain ⟨k, hk, rfl, HE, rfl⟩ := hrel
          have hL1 := HRL.out
          by_cases hkn : k < nn
          · have hc : wr.cell? ⟨a9.block, a9.off + (k + 1), none⟩ = some (.int .i64 ((recsB l1 ((r_ gv).take (k + 1))).length : Int)) := by
              have := HCE.out (k + 1) (by omega)
              rwa [show a9.add (k + 1) = ⟨a9.block, a9.off + (k + 1), none⟩ from by unfold Addr.add; simp] at this
            by_cases hle : (recsB l1 ((r_ gv).take (k + 1))).length ≤ r
            · go_wp2
              go_roundw
              case rel => exact ⟨k + 1, by omega, by go_num, Lib.hid hle, trivial⟩
              case measure => simp [RowKit.intOf]; omega
            · have HCUT := Lib.hid (cut_rem l1 (r_ gv) k r HVS.out (by omega) HE.out (fun _ => by omega))
              obtain ⟨tail, hcut, hrd⟩ := HCUT.out
              have HE32 := Lib.hid (endR_length l1 HC.out ((r_ gv).take k))
              obtain ⟨ek, hek⟩ : ∃ ek, (recsB l1 ((r_ gv).take k)).length = ek := ⟨_, rfl⟩
              obtain ⟨E, hE⟩ : ∃ E, endR l1 ((r_ gv).take k) = E := ⟨_, rfl⟩
              have HEK := Lib.hid hek
              have HEE := Lib.hid hE
              rw [hE] at HE32
              have HE8 := Lib.hid (show (cs8 E).length = 32 by rw [cs8_length, HE32.out])
              have hrc : r ≤ c7 := by have := HRD.out.cap; omega
              have HRK := Lib.hid ((HRD.out.take_ (k := r) (by omega)))
              have HAll : Hid (∀ W : World, Rd W W.heap.size A7 r c7 ((recsB l1 (r_ gv)).take r) → Calls Try.prog 19 #[.agg (cs8 l1).toArray, .slice A7 r c7] W fun e w' =>
                  ∃ A n c l, e = .returned (.tuple #[.slice A n c, .int .i64 (ek : Int), .agg (cs8 E).toArray]) ∧ l.map Rv.r = (r_ gv).take k ∧ Rs w' w'.heap.size A n c l ∧ RsNew W.heap.size A l ∧ Below W.heap.size W w') := Lib.hid fun W hW => by
                refine (All_any W HC.out hW (by omega) hcut (fun r hr => HVS.out r (List.mem_of_mem_take hr)) hrd).mono ?_
                rintro e w' ⟨A, n, c, l, rfl, h1, h2, h3, h4⟩
                exact ⟨A, n, c, l, by rw [hek, hE], h1, h2, h3, h4⟩
              clear hcut hrd hek hE
              go_wp2
              refine region_meetQ (fun a0 a' w' => ∃ g t A19 n19 c19 l19, a' = puts a0 [(126, .agg (cs8 l1).toArray), (127, .slice A7 L c7), (128, .int .i64 (r : Int)), (129, .slice A7 r c7), (130, .tuple #[.slice A19 n19 c19, .int .i64 (ek : Int), .agg (cs8 E).toArray]), (125, .tuple #[.slice A19 n19 c19, .int .i64 (ek : Int), .agg (cs8 E).toArray]), (131, .slice A19 n19 c19), (132, .int .i64 (ek : Int)), (133, .agg (cs8 E).toArray), (18, .pointer (some ⟨g, 0, none⟩)), (16, .slice A19 n19 c19), (17, .int .i64 (ek : Int))] ∧ Hid (l19.map Rv.r = (r_ gv).take k) ∧ Hid (wr.heap.size ≤ g) ∧ Hid (Bk w' g (cs8 E)) ∧ Hid (Rs w' t A19 n19 c19 l19) ∧ Hid (t ≤ w'.heap.size) ∧ Hid (Below wr.heap.size wr w')) ?_ ?_
              · have hR := Sb.stays wr.heap.size
                refine reg_start (Sb wr.heap.size) follows_mixed ?_
                have HC0 := Lib.hid H4.out.drew
                have HltC := Lib.hid H4.out.lt
                have HB := Lib.hid (Below.refl wr.heap.size wr).drew
                generalize wr.drew = u0 at HC0 HB ⊢
                refine reg_take (v := .agg (cs8 l1).toArray) hR 0 rfl (by kernel_rfl) (by kernel_rfl) (by kernel_rfl) (fun _ _ _ h => by cases h.1) (by rfl) ?_ ?_
                · intro W hW; exact exec_load_at 23 _ rfl ⟨w.heap.size, 0, none⟩ rfl (cs8 l1) _ (HC0.out.below hW HltC.out).at_ Try.underlying23 rfl (by rw [HC8.out]; exact info36)
                try simp only [Act.put, List.getElem_toArray, List.getElem_cons_succ, List.getElem_cons_zero, List.setIfInBounds_toArray, List.set_cons_zero, List.set_cons_succ]
                refine reg_take (v := .slice A7 L c7) hR 1 rfl (by kernel_rfl) (by kernel_rfl) (by kernel_rfl) (fun _ _ _ h => by cases h.1) (by rfl) ?_ ?_
                · intro W hW; go_simp; try with_reducible rfl
                try simp only [Act.put, List.getElem_toArray, List.getElem_cons_succ, List.getElem_cons_zero, List.setIfInBounds_toArray, List.set_cons_zero, List.set_cons_succ]
                refine reg_take (v := .int .i64 (r : Int)) hR 2 rfl (by kernel_rfl) (by kernel_rfl) (by kernel_rfl) (fun _ _ _ h => by cases h.1) (by rfl) ?_ ?_
                · intro W hW; go_simp; try with_reducible rfl
                try simp only [Act.put, List.getElem_toArray, List.getElem_cons_succ, List.getElem_cons_zero, List.setIfInBounds_toArray, List.set_cons_zero, List.set_cons_succ]
                refine reg_take (v := .slice A7 r c7) hR 3 rfl (by kernel_rfl) (by kernel_rfl) (by kernel_rfl) (fun _ _ _ h => by cases h.1) (by rfl) ?_ ?_
                · intro W hW; exact exec_slice31_hi _ _ rfl rfl rfl hrc rfl
                try simp only [Act.put, List.getElem_toArray, List.getElem_cons_succ, List.getElem_cons_zero, List.setIfInBounds_toArray, List.set_cons_zero, List.set_cons_succ]
                refine reg_fork (rs := [4, 9]) hR (by kernel_rfl) (by simp) ?_
                intro i hi; simp only [List.mem_cons, List.not_mem_nil, or_false] at hi
                rcases hi with rfl | rfl
                · refine ⟨_, rfl, fun K hK => ?_⟩
                  try simp only [Act.put, List.getElem_toArray, List.getElem_cons_succ, List.getElem_cons_zero, List.setIfInBounds_toArray, List.set_cons_zero, List.set_cons_succ]
                  rw [if_pos (by rfl)]
                  go_simp
                  refine (HAll.out u0 ((HRK.out.below HB.out).more HB.out.size)).mono ?_; rintro e u1 ⟨A19, n19, c19, l19, rfl, hmap, hrs, hnew, hb⟩
                  refine hK.out _ _ (show Below _ _ _ from hb.mono HB.out.size) ?_
                  clear hK K
                  have HMP := Lib.hid hmap
                  clear hmap
                  obtain ⟨t, hte⟩ : ∃ t, t = u1.heap.size := ⟨_, rfl⟩
                  rw [← hte] at hrs
                  have HO := Lib.hid hrs
                  have HTT := Lib.hid (Nat.le_of_eq hte)
                  clear hte
                  clear hrs hnew
                  have HB := Lib.hid (HB.out.trans (hb.mono HB.out.size))
                  clear hb
                  try simp only [Act.put, List.getElem_toArray, List.getElem_cons_succ, List.getElem_cons_zero, List.setIfInBounds_toArray, List.set_cons_zero, List.set_cons_succ]
                  refine reg_take (v := .tuple #[.slice A19 n19 c19, .int .i64 (ek : Int), .agg (cs8 E).toArray]) hR 5 rfl (by kernel_rfl) (by kernel_rfl) (by kernel_rfl) (fun _ _ _ h => by cases h.1) (by rfl) ?_ ?_
                  · intro W hW; go_simp; try with_reducible rfl
                  try simp only [Act.put, List.getElem_toArray, List.getElem_cons_succ, List.getElem_cons_zero, List.setIfInBounds_toArray, List.set_cons_zero, List.set_cons_succ]
                  refine reg_take (v := .slice A19 n19 c19) hR 6 rfl (by kernel_rfl) (by kernel_rfl) (by kernel_rfl) (fun _ _ _ h => by cases h.1) (by rfl) ?_ ?_
                  · intro W hW; go_simp; try with_reducible rfl
                  try simp only [Act.put, List.getElem_toArray, List.getElem_cons_succ, List.getElem_cons_zero, List.setIfInBounds_toArray, List.set_cons_zero, List.set_cons_succ]
                  refine reg_take (v := .int .i64 (ek : Int)) hR 7 rfl (by kernel_rfl) (by kernel_rfl) (by kernel_rfl) (fun _ _ _ h => by cases h.1) (by rfl) ?_ ?_
                  · intro W hW; go_simp; try with_reducible rfl
                  try simp only [Act.put, List.getElem_toArray, List.getElem_cons_succ, List.getElem_cons_zero, List.setIfInBounds_toArray, List.set_cons_zero, List.set_cons_succ]
                  refine reg_take (v := .agg (cs8 E).toArray) hR 8 rfl (by kernel_rfl) (by kernel_rfl) (by kernel_rfl) (fun _ _ _ h => by cases h.1) (by rfl) ?_ ?_
                  · intro W hW; go_simp; try with_reducible rfl
                  try simp only [Act.put, List.getElem_toArray, List.getElem_cons_succ, List.getElem_cons_zero, List.setIfInBounds_toArray, List.set_cons_zero, List.set_cons_succ]
                  refine reg_step hR 9 (by kernel_rfl) rfl fun K hK => ?_
                  try simp only [Act.put, List.getElem_toArray, List.getElem_cons_succ, List.getElem_cons_zero, List.setIfInBounds_toArray, List.set_cons_zero, List.set_cons_succ]
                  rw [if_pos (by rfl)]
                  refine wp_alloc_z 23 rfl z36 zero36 ?_
                  refine hK.out _ _ ((Below.refl _ _).alloc HB.out.size _) ?_
                  clear hK K
                  have HGg := Lib.hid (Bk.new u1 z36 23)
                  have HNg : Hid (Off u1.heap.size t A19 l19) := Lib.hid (Off.new HTT.out)
                  have HO := Lib.hid (Rs.below HO.out ((Below.refl _ u1).alloc HTT.out (.cells z36.toArray 23)))
                  have HTT := Lib.hid (show t ≤ (u1.alloc (.cells z36.toArray 23)).heap.size from Nat.le_trans HTT.out (by simp))
                  have HTg := Lib.hid (show wr.heap.size ≤ u1.heap.size from HB.out.size)
                  have HB := Lib.hid (HB.out.alloc HB.out.size (.cells z36.toArray 23))
                  have HLg := Lib.hid (show u1.heap.size < (u1.alloc (.cells z36.toArray 23)).heap.size by simp)
                  generalize hgw : u1.alloc (.cells z36.toArray 23) = u2 at HB HGg HO HTT HLg ⊢
                  clear hgw
                  generalize hgw : u1.heap.size = g at HGg HTg HLg HNg ⊢
                  clear hgw
                  try simp only [Act.put, List.getElem_toArray, List.getElem_cons_succ, List.getElem_cons_zero, List.setIfInBounds_toArray, List.set_cons_zero, List.set_cons_succ]
                  refine reg_take (v := .slice A19 n19 c19) hR 10 rfl (by kernel_rfl) (by kernel_rfl) (by kernel_rfl) (fun _ _ _ h => by cases h.1) (by rfl) ?_ ?_
                  · intro W hW; go_simp; try with_reducible rfl
                  try simp only [Act.put, List.getElem_toArray, List.getElem_cons_succ, List.getElem_cons_zero, List.setIfInBounds_toArray, List.set_cons_zero, List.set_cons_succ]
                  refine reg_take (v := .int .i64 (ek : Int)) hR 11 rfl (by kernel_rfl) (by kernel_rfl) (by kernel_rfl) (fun _ _ _ h => by cases h.1) (by rfl) ?_ ?_
                  · intro W hW; go_simp; try with_reducible rfl
                  try simp only [Act.put, List.getElem_toArray, List.getElem_cons_succ, List.getElem_cons_zero, List.setIfInBounds_toArray, List.set_cons_zero, List.set_cons_succ]
                  refine reg_step hR 12 (by kernel_rfl) rfl fun K hK => ?_
                  try simp only [Act.put, List.getElem_toArray, List.getElem_cons_succ, List.getElem_cons_zero, List.setIfInBounds_toArray, List.set_cons_zero, List.set_cons_succ]
                  rw [if_pos (by rfl)]
                  refine wp_store_bk 23 _ _ rfl g rfl (cs8 E) z36 rfl HGg.out (by rw [HE8.out]; exact info36) (by rw [HE8.out]; exact len_z36) (cs8_all _) ?_
                  refine hK.out _ _ (below_setRow (Below.refl _ _) HTg.out _) ?_
                  clear hK K
                  have HGg := Lib.hid (HGg.out.setRow (cs8 E))
                  have HO := Lib.hid (Rs.grown HO.out HTT.out (grown_setRow u2 g ((cs8 E)).toArray) HNg.out)
                  have HTT := Lib.hid (show t ≤ (u2.setRow g ((cs8 E)).toArray).heap.size from Nat.le_trans HTT.out (grown_setRow u2 g ((cs8 E)).toArray).size)
                  have HB := Lib.hid (below_setRow HB.out HTg.out ((cs8 E)).toArray)
                  generalize hgw : u2.setRow g ((cs8 E)).toArray = u3 at HB HGg HO HTT ⊢
                  clear hgw
                  try simp only [Act.put, List.getElem_toArray, List.getElem_cons_succ, List.getElem_cons_zero, List.setIfInBounds_toArray, List.set_cons_zero, List.set_cons_succ]
                  refine reg_done (by kernel_rfl) ?_ _
                  refine ⟨rfl, g, t, A19, n19, c19, l19, ?_, HMP, HTg, HGg, HO, HTT, HB⟩
                  simp only [puts, List.foldl_cons, List.foldl_nil, Act.put, List.getElem_toArray, List.getElem_cons_succ, List.getElem_cons_zero, List.setIfInBounds_toArray, List.set_cons_zero, List.set_cons_succ]
                · refine ⟨_, rfl, fun K hK => ?_⟩
                  try simp only [Act.put, List.getElem_toArray, List.getElem_cons_succ, List.getElem_cons_zero, List.setIfInBounds_toArray, List.set_cons_zero, List.set_cons_succ]
                  rw [if_pos (by rfl)]
                  refine wp_alloc_z 23 rfl z36 zero36 ?_
                  refine hK.out _ _ ((Below.refl _ _).alloc HB.out.size _) ?_
                  clear hK K
                  have HGg := Lib.hid (Bk.new u0 z36 23)
                  have HTg := Lib.hid (show wr.heap.size ≤ u0.heap.size from HB.out.size)
                  have HB := Lib.hid (HB.out.alloc HB.out.size (.cells z36.toArray 23))
                  have HLg := Lib.hid (show u0.heap.size < (u0.alloc (.cells z36.toArray 23)).heap.size by simp)
                  generalize hgw : u0.alloc (.cells z36.toArray 23) = u1 at HB HGg HLg ⊢
                  clear hgw
                  generalize hgw : u0.heap.size = g at HGg HTg HLg ⊢
                  clear hgw
                  try simp only [Act.put, List.getElem_toArray, List.getElem_cons_succ, List.getElem_cons_zero, List.setIfInBounds_toArray, List.set_cons_zero, List.set_cons_succ]
                  refine reg_step hR 4 (by kernel_rfl) rfl fun K hK => ?_
                  try simp only [Act.put, List.getElem_toArray, List.getElem_cons_succ, List.getElem_cons_zero, List.setIfInBounds_toArray, List.set_cons_zero, List.set_cons_succ]
                  rw [if_pos (by rfl)]
                  go_simp
                  refine (HAll.out u1 ((HRK.out.below HB.out).more HB.out.size)).mono ?_; rintro e u2 ⟨A19, n19, c19, l19, rfl, hmap, hrs, hnew, hb⟩
                  refine hK.out _ _ (show Below _ _ _ from hb.mono HB.out.size) ?_
                  clear hK K
                  have HMP := Lib.hid hmap
                  clear hmap
                  have HGg := Lib.hid (HGg.out.keep hb)
                  obtain ⟨t, hte⟩ : ∃ t, t = u2.heap.size := ⟨_, rfl⟩
                  rw [← hte] at hrs
                  have HNg : Hid (Off g t A19 l19) := Lib.hid (hnew.off HLg.out)
                  have HO := Lib.hid hrs
                  have HTT := Lib.hid (Nat.le_of_eq hte)
                  clear hte
                  clear hrs hnew
                  have HB := Lib.hid (HB.out.trans (hb.mono HB.out.size))
                  clear hb
                  have HLg := Lib.hid (show g < u2.heap.size from HGg.out.lt)
                  try simp only [Act.put, List.getElem_toArray, List.getElem_cons_succ, List.getElem_cons_zero, List.setIfInBounds_toArray, List.set_cons_zero, List.set_cons_succ]
                  refine reg_take (v := .tuple #[.slice A19 n19 c19, .int .i64 (ek : Int), .agg (cs8 E).toArray]) hR 5 rfl (by kernel_rfl) (by kernel_rfl) (by kernel_rfl) (fun _ _ _ h => by cases h.1) (by rfl) ?_ ?_
                  · intro W hW; go_simp; try with_reducible rfl
                  try simp only [Act.put, List.getElem_toArray, List.getElem_cons_succ, List.getElem_cons_zero, List.setIfInBounds_toArray, List.set_cons_zero, List.set_cons_succ]
                  refine reg_take (v := .slice A19 n19 c19) hR 6 rfl (by kernel_rfl) (by kernel_rfl) (by kernel_rfl) (fun _ _ _ h => by cases h.1) (by rfl) ?_ ?_
                  · intro W hW; go_simp; try with_reducible rfl
                  try simp only [Act.put, List.getElem_toArray, List.getElem_cons_succ, List.getElem_cons_zero, List.setIfInBounds_toArray, List.set_cons_zero, List.set_cons_succ]
                  refine reg_take (v := .int .i64 (ek : Int)) hR 7 rfl (by kernel_rfl) (by kernel_rfl) (by kernel_rfl) (fun _ _ _ h => by cases h.1) (by rfl) ?_ ?_
                  · intro W hW; go_simp; try with_reducible rfl
                  try simp only [Act.put, List.getElem_toArray, List.getElem_cons_succ, List.getElem_cons_zero, List.setIfInBounds_toArray, List.set_cons_zero, List.set_cons_succ]
                  refine reg_take (v := .agg (cs8 E).toArray) hR 8 rfl (by kernel_rfl) (by kernel_rfl) (by kernel_rfl) (fun _ _ _ h => by cases h.1) (by rfl) ?_ ?_
                  · intro W hW; go_simp; try with_reducible rfl
                  try simp only [Act.put, List.getElem_toArray, List.getElem_cons_succ, List.getElem_cons_zero, List.setIfInBounds_toArray, List.set_cons_zero, List.set_cons_succ]
                  refine reg_take (v := .slice A19 n19 c19) hR 10 rfl (by kernel_rfl) (by kernel_rfl) (by kernel_rfl) (fun _ _ _ h => by cases h.1) (by rfl) ?_ ?_
                  · intro W hW; go_simp; try with_reducible rfl
                  try simp only [Act.put, List.getElem_toArray, List.getElem_cons_succ, List.getElem_cons_zero, List.setIfInBounds_toArray, List.set_cons_zero, List.set_cons_succ]
                  refine reg_take (v := .int .i64 (ek : Int)) hR 11 rfl (by kernel_rfl) (by kernel_rfl) (by kernel_rfl) (fun _ _ _ h => by cases h.1) (by rfl) ?_ ?_
                  · intro W hW; go_simp; try with_reducible rfl
                  try simp only [Act.put, List.getElem_toArray, List.getElem_cons_succ, List.getElem_cons_zero, List.setIfInBounds_toArray, List.set_cons_zero, List.set_cons_succ]
                  refine reg_step hR 12 (by kernel_rfl) rfl fun K hK => ?_
                  try simp only [Act.put, List.getElem_toArray, List.getElem_cons_succ, List.getElem_cons_zero, List.setIfInBounds_toArray, List.set_cons_zero, List.set_cons_succ]
                  rw [if_pos (by rfl)]
                  refine wp_store_bk 23 _ _ rfl g rfl (cs8 E) z36 rfl HGg.out (by rw [HE8.out]; exact info36) (by rw [HE8.out]; exact len_z36) (cs8_all _) ?_
                  refine hK.out _ _ (below_setRow (Below.refl _ _) HTg.out _) ?_
                  clear hK K
                  have HGg := Lib.hid (HGg.out.setRow (cs8 E))
                  have HO := Lib.hid (Rs.grown HO.out HTT.out (grown_setRow u2 g ((cs8 E)).toArray) HNg.out)
                  have HTT := Lib.hid (show t ≤ (u2.setRow g ((cs8 E)).toArray).heap.size from Nat.le_trans HTT.out (grown_setRow u2 g ((cs8 E)).toArray).size)
                  have HB := Lib.hid (below_setRow HB.out HTg.out ((cs8 E)).toArray)
                  generalize hgw : u2.setRow g ((cs8 E)).toArray = u3 at HB HGg HO HTT ⊢
                  clear hgw
                  try simp only [Act.put, List.getElem_toArray, List.getElem_cons_succ, List.getElem_cons_zero, List.setIfInBounds_toArray, List.set_cons_zero, List.set_cons_succ]
                  refine reg_done (by kernel_rfl) ?_ _
                  refine ⟨rfl, g, t, A19, n19, c19, l19, ?_, HMP, HTg, HGg, HO, HTT, HB⟩
                  simp only [puts, List.foldl_cons, List.foldl_nil, Act.put, List.getElem_toArray, List.getElem_cons_succ, List.getElem_cons_zero, List.setIfInBounds_toArray, List.set_cons_zero, List.set_cons_succ]
              · rintro a' w4 ⟨g, t, A19, n19, c19, l19, rfl, HMP, HTg, HGg, HO, HTT, HB⟩
                simp only [puts, List.foldl_cons, List.foldl_nil, Act.put, List.getElem_toArray, List.getElem_cons_succ, List.getElem_cons_zero, List.setIfInBounds_toArray, List.set_cons_zero, List.set_cons_succ]
                have hn19 : n19 ≤ 40 := by
                  have h1 := congrArg List.length HMP.out
                  rw [List.length_map, HO.out.1, List.length_take, HRL.out] at h1
                  omega
                have hkc : k ≤ c8 := by have := HRS.out.2.1; omega
                have HRT := Lib.hid ((HRS.out.lift HB.out).take_ (k := k) hk)
                have hc9 : w4.cell? (a9.add k) = some (.int .i64 (ek : Int)) := by rw [← HEK.out]; exact (HB.out.cell (by rw [add_block]; exact HT9.out)).trans (HCE.out k hk)
                have hc10 : ∀ j v, (cs8 E)[j]? = some v → w4.cell? ((a10.add (k * 32)).add j) = some v := fun j v hv => (HB.out.cell (by rw [add_block, add_block]; exact HT10.out)).trans (HCH.out k hk j v (by rw [HEE.out]; exact hv))
                have HBW := Lib.hid (bl_call HBL.out HB.out)
                have ht9 : a9.block < w4.heap.size := Nat.lt_of_lt_of_le HT9.out HB.out.size
                have ht10 : a10.block < w4.heap.size := Nat.lt_of_lt_of_le HT10.out HB.out.size
                have HARR := Lib.hid (arr_same HE32.out)
                go_wp2
                have hR := Old.stays
                refine reg_start Old follows_mixed ?_
                have HR5 := Lib.hid (show Rs w4.drew w4.drew.heap.size A8 k c8 (gv.take k) from HRT.out.below (Below.refl _ w4).drew)
                have HO5 := Lib.hid (show Rs w4.drew w4.drew.heap.size A19 n19 c19 l19 from (HO.out.more HTT.out).below (Below.refl _ w4).drew)
                have HC5 := Lib.hid (show w4.drew.cell? (a9.add k) = some (.int .i64 (ek : Int)) from hc9)
                have HD5 := Lib.hid (show ∀ j v, (cs8 E)[j]? = some v → w4.drew.cell? ((a10.add (k * 32)).add j) = some v from hc10)
                have HG5 := Lib.hid HGg.out.drew
                have HB5 := Lib.hid (show Below w.heap.size w w4.drew from bl_call HBW.out (Below.refl _ w4).drew)
                have HT95 := Lib.hid (show (a9.add k).block < w4.drew.heap.size by rw [add_block]; exact ht9)
                have HT105 := Lib.hid (show (a10.add (k * 32)).block < w4.drew.heap.size by rw [add_block]; exact ht10)
                clear hc9 hc10 ht9 ht10 HRT HO HTT HGg HB HBW
                generalize w4.drew = w5 at HR5 HO5 HC5 HD5 HG5 HB5 HT95 HT105 ⊢
                refine reg_take (v := .slice A19 n19 c19) hR 0 rfl (by kernel_rfl) (by kernel_rfl) (by kernel_rfl) (fun _ _ _ h => h) (by rfl) ?_ ?_
                · intro W hW; go_simp; try with_reducible rfl
                try simp only [Act.put, List.getElem_toArray, List.getElem_cons_succ, List.getElem_cons_zero, List.setIfInBounds_toArray, List.set_cons_zero, List.set_cons_succ]
                refine reg_take (v := .slice A8 nn c8) hR 1 rfl (by kernel_rfl) (by kernel_rfl) (by kernel_rfl) (fun _ _ _ h => h) (by rfl) ?_ ?_
                · intro W hW; go_simp; try with_reducible rfl
                try simp only [Act.put, List.getElem_toArray, List.getElem_cons_succ, List.getElem_cons_zero, List.setIfInBounds_toArray, List.set_cons_zero, List.set_cons_succ]
                refine reg_take (v := .int .i64 (k : Int)) hR 2 rfl (by kernel_rfl) (by kernel_rfl) (by kernel_rfl) (fun _ _ _ h => h) (by rfl) ?_ ?_
                · intro W hW; go_simp; try with_reducible rfl
                try simp only [Act.put, List.getElem_toArray, List.getElem_cons_succ, List.getElem_cons_zero, List.setIfInBounds_toArray, List.set_cons_zero, List.set_cons_succ]
                refine reg_take (v := .slice A8 k c8) hR 3 rfl (by kernel_rfl) (by kernel_rfl) (by kernel_rfl) (fun _ _ _ h => h) (by rfl) ?_ ?_
                · intro W hW; exact exec_slice39_hi _ _ rfl rfl rfl hkc rfl
                try simp only [Act.put, List.getElem_toArray, List.getElem_cons_succ, List.getElem_cons_zero, List.setIfInBounds_toArray, List.set_cons_zero, List.set_cons_succ]
                refine reg_step hR 4 (by kernel_rfl) rfl fun K hK => ?_
                try simp only [Act.put, List.getElem_toArray, List.getElem_cons_succ, List.getElem_cons_zero, List.setIfInBounds_toArray, List.set_cons_zero, List.set_cons_succ]
                go_simp
                refine (Records_yes w5 HO5.out HR5.out (by omega) (by rw [HMP.out, r_, List.map_take])).mono ?_; rintro e w6 ⟨rfl, hb⟩
                refine hK.out _ _ hb ?_
                have HC6 := Lib.hid ((hb.cell HT95.out).trans HC5.out)
                have HD6 := Lib.hid (cells_keep HD5.out HT105.out hb)
                have HT96 := Lib.hid (Nat.lt_of_lt_of_le HT95.out hb.size)
                have HT106 := Lib.hid (Nat.lt_of_lt_of_le HT105.out hb.size)
                have HG6 := Lib.hid (HG5.out.keep hb)
                have HB6 := Lib.hid (bl_call HB5.out hb)
                clear hb HR5 HO5 HC5 HD5 HG5 HB5 HT95 HT105
                clear hK K
                try simp only [Act.put, List.getElem_toArray, List.getElem_cons_succ, List.getElem_cons_zero, List.setIfInBounds_toArray, List.set_cons_zero, List.set_cons_succ]
                refine reg_take (v := .bool true) hR 5 rfl (by kernel_rfl) (by kernel_rfl) (by kernel_rfl) (fun _ _ _ h => h) (by rfl) ?_ ?_
                · intro W hW; go_simp; try with_reducible rfl
                try simp only [Act.put, List.getElem_toArray, List.getElem_cons_succ, List.getElem_cons_zero, List.setIfInBounds_toArray, List.set_cons_zero, List.set_cons_succ]
                refine reg_take (v := .int .i64 (ek : Int)) hR 6 rfl (by kernel_rfl) (by kernel_rfl) (by kernel_rfl) (fun _ _ _ h => h) (by rfl) ?_ ?_
                · intro W hW; go_simp; try with_reducible rfl
                try simp only [Act.put, List.getElem_toArray, List.getElem_cons_succ, List.getElem_cons_zero, List.setIfInBounds_toArray, List.set_cons_zero, List.set_cons_succ]
                refine reg_take (v := .slice (some a9) (nn + 1) k9) hR 7 rfl (by kernel_rfl) (by kernel_rfl) (by kernel_rfl) (fun _ _ _ h => h) (by rfl) ?_ ?_
                · intro W hW; go_simp; try with_reducible rfl
                try simp only [Act.put, List.getElem_toArray, List.getElem_cons_succ, List.getElem_cons_zero, List.setIfInBounds_toArray, List.set_cons_zero, List.set_cons_succ]
                refine reg_take (v := .int .i64 (k : Int)) hR 8 rfl (by kernel_rfl) (by kernel_rfl) (by kernel_rfl) (fun _ _ _ h => h) (by rfl) ?_ ?_
                · intro W hW; go_simp; try with_reducible rfl
                try simp only [Act.put, List.getElem_toArray, List.getElem_cons_succ, List.getElem_cons_zero, List.setIfInBounds_toArray, List.set_cons_zero, List.set_cons_succ]
                refine reg_take (v := .pointer (some (a9.add k))) hR 9 rfl (by kernel_rfl) (by kernel_rfl) (by kernel_rfl) (fun _ _ _ h => h) (by rfl) ?_ ?_
                · intro W hW; go_simp; try (intro h; omega)
                try simp only [Act.put, List.getElem_toArray, List.getElem_cons_succ, List.getElem_cons_zero, List.setIfInBounds_toArray, List.set_cons_zero, List.set_cons_succ]
                refine reg_take (v := .int .i64 (ek : Int)) hR 10 rfl (by kernel_rfl) (by kernel_rfl) (by kernel_rfl) (fun _ _ _ h => h) (by rfl) ?_ ?_
                · intro W hW; exact exec_load_cell 3 _ rfl Try.isAgg3 rfl ((hW.cell HT96.out).trans HC6.out)
                try simp only [Act.put, List.getElem_toArray, List.getElem_cons_succ, List.getElem_cons_zero, List.setIfInBounds_toArray, List.set_cons_zero, List.set_cons_succ]
                refine reg_take (v := .bool true) hR 11 rfl (by kernel_rfl) (by kernel_rfl) (by kernel_rfl) (fun _ _ _ h => h) (by rfl) ?_ ?_
                · intro W hW; go_simp; try with_reducible rfl
                try simp only [Act.put, List.getElem_toArray, List.getElem_cons_succ, List.getElem_cons_zero, List.setIfInBounds_toArray, List.set_cons_zero, List.set_cons_succ]
                refine reg_take (v := .bool true) hR 12 rfl (by kernel_rfl) (by kernel_rfl) (by kernel_rfl) (fun _ _ _ h => h) (by rfl) ?_ ?_
                · intro W hW; go_simp; try with_reducible rfl
                try simp only [Act.put, List.getElem_toArray, List.getElem_cons_succ, List.getElem_cons_zero, List.setIfInBounds_toArray, List.set_cons_zero, List.set_cons_succ]
                refine reg_take (v := .bool true) hR 13 rfl (by kernel_rfl) (by kernel_rfl) (by kernel_rfl) (fun _ _ _ h => h) (by rfl) ?_ ?_
                · intro W hW; go_simp; try with_reducible rfl
                try simp only [Act.put, List.getElem_toArray, List.getElem_cons_succ, List.getElem_cons_zero, List.setIfInBounds_toArray, List.set_cons_zero, List.set_cons_succ]
                refine reg_take (v := .agg (cs8 E).toArray) hR 14 rfl (by kernel_rfl) (by kernel_rfl) (by kernel_rfl) (fun _ _ _ h => h) (by rfl) ?_ ?_
                · intro W hW; exact exec_load_at 23 _ rfl ⟨g, 0, none⟩ rfl (cs8 E) _ (HG6.out.keep hW).at_ Try.underlying23 rfl (by rw [HE8.out]; exact info36)
                try simp only [Act.put, List.getElem_toArray, List.getElem_cons_succ, List.getElem_cons_zero, List.setIfInBounds_toArray, List.set_cons_zero, List.set_cons_succ]
                refine reg_take (v := .slice (some a10) (nn + 1) k10) hR 15 rfl (by kernel_rfl) (by kernel_rfl) (by kernel_rfl) (fun _ _ _ h => h) (by rfl) ?_ ?_
                · intro W hW; go_simp; try with_reducible rfl
                try simp only [Act.put, List.getElem_toArray, List.getElem_cons_succ, List.getElem_cons_zero, List.setIfInBounds_toArray, List.set_cons_zero, List.set_cons_succ]
                refine reg_take (v := .int .i64 (k : Int)) hR 16 rfl (by kernel_rfl) (by kernel_rfl) (by kernel_rfl) (fun _ _ _ h => h) (by rfl) ?_ ?_
                · intro W hW; go_simp; try with_reducible rfl
                try simp only [Act.put, List.getElem_toArray, List.getElem_cons_succ, List.getElem_cons_zero, List.setIfInBounds_toArray, List.set_cons_zero, List.set_cons_succ]
                refine reg_take (v := .pointer (some (a10.add (k * 32)))) hR 17 rfl (by kernel_rfl) (by kernel_rfl) (by kernel_rfl) (fun _ _ _ h => h) (by rfl) ?_ ?_
                · intro W hW; go_simp; try (intro h; omega)
                try simp only [Act.put, List.getElem_toArray, List.getElem_cons_succ, List.getElem_cons_zero, List.setIfInBounds_toArray, List.set_cons_zero, List.set_cons_succ]
                refine reg_take (v := .agg (cs8 E).toArray) hR 18 rfl (by kernel_rfl) (by kernel_rfl) (by kernel_rfl) (fun _ _ _ h => h) (by rfl) ?_ ?_
                · intro W hW; exact exec_load_at 23 _ rfl (a10.add (k * 32)) rfl (cs8 E) _ (cells_keep HD6.out HT106.out hW) Try.underlying23 rfl (by rw [HE8.out]; exact info36)
                try simp only [Act.put, List.getElem_toArray, List.getElem_cons_succ, List.getElem_cons_zero, List.setIfInBounds_toArray, List.set_cons_zero, List.set_cons_succ]
                refine reg_take (v := .bool true) hR 19 rfl (by kernel_rfl) (by kernel_rfl) (by kernel_rfl) (fun _ _ _ h => h) (by rfl) ?_ ?_
                · intro W hW; have harr := HARR.out; go_simp; try with_reducible rfl
                try simp only [Act.put, List.getElem_toArray, List.getElem_cons_succ, List.getElem_cons_zero, List.setIfInBounds_toArray, List.set_cons_zero, List.set_cons_succ]
                refine reg_take (v := .bool true) hR 20 rfl (by kernel_rfl) (by kernel_rfl) (by kernel_rfl) (fun _ _ _ h => h) (by rfl) ?_ ?_
                · intro W hW; go_simp; try with_reducible rfl
                try simp only [Act.put, List.getElem_toArray, List.getElem_cons_succ, List.getElem_cons_zero, List.setIfInBounds_toArray, List.set_cons_zero, List.set_cons_succ]
                refine reg_take (v := .bool true) hR 21 rfl (by kernel_rfl) (by kernel_rfl) (by kernel_rfl) (fun _ _ _ h => h) (by rfl) ?_ ?_
                · intro W hW; go_simp; try with_reducible rfl
                try simp only [Act.put, List.getElem_toArray, List.getElem_cons_succ, List.getElem_cons_zero, List.setIfInBounds_toArray, List.set_cons_zero, List.set_cons_succ]
                refine reg_done (by kernel_rfl) ?_ _
                go_wp2
                go_ret
                exact ⟨rfl, HB6.out⟩
          · have hkn2 : nn ≤ k := by omega
            have HCUT := Lib.hid (cut_rem l1 (r_ gv) k r HVS.out (by omega) HE.out (fun h => by omega))
            obtain ⟨tail, hcut, hrd⟩ := HCUT.out
            have HE32 := Lib.hid (endR_length l1 HC.out ((r_ gv).take k))
            obtain ⟨ek, hek⟩ : ∃ ek, (recsB l1 ((r_ gv).take k)).length = ek := ⟨_, rfl⟩
            obtain ⟨E, hE⟩ : ∃ E, endR l1 ((r_ gv).take k) = E := ⟨_, rfl⟩
            have HEK := Lib.hid hek
            have HEE := Lib.hid hE
            rw [hE] at HE32
            have HE8 := Lib.hid (show (cs8 E).length = 32 by rw [cs8_length, HE32.out])
            have hrc : r ≤ c7 := by have := HRD.out.cap; omega
            have HRK := Lib.hid ((HRD.out.take_ (k := r) (by omega)))
            have HAll : Hid (∀ W : World, Rd W W.heap.size A7 r c7 ((recsB l1 (r_ gv)).take r) → Calls Try.prog 19 #[.agg (cs8 l1).toArray, .slice A7 r c7] W fun e w' =>
                ∃ A n c l, e = .returned (.tuple #[.slice A n c, .int .i64 (ek : Int), .agg (cs8 E).toArray]) ∧ l.map Rv.r = (r_ gv).take k ∧ Rs w' w'.heap.size A n c l ∧ RsNew W.heap.size A l ∧ Below W.heap.size W w') := Lib.hid fun W hW => by
              refine (All_any W HC.out hW (by omega) hcut (fun r hr => HVS.out r (List.mem_of_mem_take hr)) hrd).mono ?_
              rintro e w' ⟨A, n, c, l, rfl, h1, h2, h3, h4⟩
              exact ⟨A, n, c, l, by rw [hek, hE], h1, h2, h3, h4⟩
            clear hcut hrd hek hE
            go_wp2
            refine region_meetQ (fun a0 a' w' => ∃ g t A19 n19 c19 l19, a' = puts a0 [(126, .agg (cs8 l1).toArray), (127, .slice A7 L c7), (128, .int .i64 (r : Int)), (129, .slice A7 r c7), (130, .tuple #[.slice A19 n19 c19, .int .i64 (ek : Int), .agg (cs8 E).toArray]), (125, .tuple #[.slice A19 n19 c19, .int .i64 (ek : Int), .agg (cs8 E).toArray]), (131, .slice A19 n19 c19), (132, .int .i64 (ek : Int)), (133, .agg (cs8 E).toArray), (18, .pointer (some ⟨g, 0, none⟩)), (16, .slice A19 n19 c19), (17, .int .i64 (ek : Int))] ∧ Hid (l19.map Rv.r = (r_ gv).take k) ∧ Hid (wr.heap.size ≤ g) ∧ Hid (Bk w' g (cs8 E)) ∧ Hid (Rs w' t A19 n19 c19 l19) ∧ Hid (t ≤ w'.heap.size) ∧ Hid (Below wr.heap.size wr w')) ?_ ?_
            · have hR := Sb.stays wr.heap.size
              refine reg_start (Sb wr.heap.size) follows_mixed ?_
              have HC0 := Lib.hid H4.out.drew
              have HltC := Lib.hid H4.out.lt
              have HB := Lib.hid (Below.refl wr.heap.size wr).drew
              generalize wr.drew = u0 at HC0 HB ⊢
              refine reg_take (v := .agg (cs8 l1).toArray) hR 0 rfl (by kernel_rfl) (by kernel_rfl) (by kernel_rfl) (fun _ _ _ h => by cases h.1) (by rfl) ?_ ?_
              · intro W hW; exact exec_load_at 23 _ rfl ⟨w.heap.size, 0, none⟩ rfl (cs8 l1) _ (HC0.out.below hW HltC.out).at_ Try.underlying23 rfl (by rw [HC8.out]; exact info36)
              try simp only [Act.put, List.getElem_toArray, List.getElem_cons_succ, List.getElem_cons_zero, List.setIfInBounds_toArray, List.set_cons_zero, List.set_cons_succ]
              refine reg_take (v := .slice A7 L c7) hR 1 rfl (by kernel_rfl) (by kernel_rfl) (by kernel_rfl) (fun _ _ _ h => by cases h.1) (by rfl) ?_ ?_
              · intro W hW; go_simp; try with_reducible rfl
              try simp only [Act.put, List.getElem_toArray, List.getElem_cons_succ, List.getElem_cons_zero, List.setIfInBounds_toArray, List.set_cons_zero, List.set_cons_succ]
              refine reg_take (v := .int .i64 (r : Int)) hR 2 rfl (by kernel_rfl) (by kernel_rfl) (by kernel_rfl) (fun _ _ _ h => by cases h.1) (by rfl) ?_ ?_
              · intro W hW; go_simp; try with_reducible rfl
              try simp only [Act.put, List.getElem_toArray, List.getElem_cons_succ, List.getElem_cons_zero, List.setIfInBounds_toArray, List.set_cons_zero, List.set_cons_succ]
              refine reg_take (v := .slice A7 r c7) hR 3 rfl (by kernel_rfl) (by kernel_rfl) (by kernel_rfl) (fun _ _ _ h => by cases h.1) (by rfl) ?_ ?_
              · intro W hW; exact exec_slice31_hi _ _ rfl rfl rfl hrc rfl
              try simp only [Act.put, List.getElem_toArray, List.getElem_cons_succ, List.getElem_cons_zero, List.setIfInBounds_toArray, List.set_cons_zero, List.set_cons_succ]
              refine reg_fork (rs := [4, 9]) hR (by kernel_rfl) (by simp) ?_
              intro i hi; simp only [List.mem_cons, List.not_mem_nil, or_false] at hi
              rcases hi with rfl | rfl
              · refine ⟨_, rfl, fun K hK => ?_⟩
                try simp only [Act.put, List.getElem_toArray, List.getElem_cons_succ, List.getElem_cons_zero, List.setIfInBounds_toArray, List.set_cons_zero, List.set_cons_succ]
                rw [if_pos (by rfl)]
                go_simp
                refine (HAll.out u0 ((HRK.out.below HB.out).more HB.out.size)).mono ?_; rintro e u1 ⟨A19, n19, c19, l19, rfl, hmap, hrs, hnew, hb⟩
                refine hK.out _ _ (show Below _ _ _ from hb.mono HB.out.size) ?_
                clear hK K
                have HMP := Lib.hid hmap
                clear hmap
                obtain ⟨t, hte⟩ : ∃ t, t = u1.heap.size := ⟨_, rfl⟩
                rw [← hte] at hrs
                have HO := Lib.hid hrs
                have HTT := Lib.hid (Nat.le_of_eq hte)
                clear hte
                clear hrs hnew
                have HB := Lib.hid (HB.out.trans (hb.mono HB.out.size))
                clear hb
                try simp only [Act.put, List.getElem_toArray, List.getElem_cons_succ, List.getElem_cons_zero, List.setIfInBounds_toArray, List.set_cons_zero, List.set_cons_succ]
                refine reg_take (v := .tuple #[.slice A19 n19 c19, .int .i64 (ek : Int), .agg (cs8 E).toArray]) hR 5 rfl (by kernel_rfl) (by kernel_rfl) (by kernel_rfl) (fun _ _ _ h => by cases h.1) (by rfl) ?_ ?_
                · intro W hW; go_simp; try with_reducible rfl
                try simp only [Act.put, List.getElem_toArray, List.getElem_cons_succ, List.getElem_cons_zero, List.setIfInBounds_toArray, List.set_cons_zero, List.set_cons_succ]
                refine reg_take (v := .slice A19 n19 c19) hR 6 rfl (by kernel_rfl) (by kernel_rfl) (by kernel_rfl) (fun _ _ _ h => by cases h.1) (by rfl) ?_ ?_
                · intro W hW; go_simp; try with_reducible rfl
                try simp only [Act.put, List.getElem_toArray, List.getElem_cons_succ, List.getElem_cons_zero, List.setIfInBounds_toArray, List.set_cons_zero, List.set_cons_succ]
                refine reg_take (v := .int .i64 (ek : Int)) hR 7 rfl (by kernel_rfl) (by kernel_rfl) (by kernel_rfl) (fun _ _ _ h => by cases h.1) (by rfl) ?_ ?_
                · intro W hW; go_simp; try with_reducible rfl
                try simp only [Act.put, List.getElem_toArray, List.getElem_cons_succ, List.getElem_cons_zero, List.setIfInBounds_toArray, List.set_cons_zero, List.set_cons_succ]
                refine reg_take (v := .agg (cs8 E).toArray) hR 8 rfl (by kernel_rfl) (by kernel_rfl) (by kernel_rfl) (fun _ _ _ h => by cases h.1) (by rfl) ?_ ?_
                · intro W hW; go_simp; try with_reducible rfl
                try simp only [Act.put, List.getElem_toArray, List.getElem_cons_succ, List.getElem_cons_zero, List.setIfInBounds_toArray, List.set_cons_zero, List.set_cons_succ]
                refine reg_step hR 9 (by kernel_rfl) rfl fun K hK => ?_
                try simp only [Act.put, List.getElem_toArray, List.getElem_cons_succ, List.getElem_cons_zero, List.setIfInBounds_toArray, List.set_cons_zero, List.set_cons_succ]
                rw [if_pos (by rfl)]
                refine wp_alloc_z 23 rfl z36 zero36 ?_
                refine hK.out _ _ ((Below.refl _ _).alloc HB.out.size _) ?_
                clear hK K
                have HGg := Lib.hid (Bk.new u1 z36 23)
                have HNg : Hid (Off u1.heap.size t A19 l19) := Lib.hid (Off.new HTT.out)
                have HO := Lib.hid (Rs.below HO.out ((Below.refl _ u1).alloc HTT.out (.cells z36.toArray 23)))
                have HTT := Lib.hid (show t ≤ (u1.alloc (.cells z36.toArray 23)).heap.size from Nat.le_trans HTT.out (by simp))
                have HTg := Lib.hid (show wr.heap.size ≤ u1.heap.size from HB.out.size)
                have HB := Lib.hid (HB.out.alloc HB.out.size (.cells z36.toArray 23))
                have HLg := Lib.hid (show u1.heap.size < (u1.alloc (.cells z36.toArray 23)).heap.size by simp)
                generalize hgw : u1.alloc (.cells z36.toArray 23) = u2 at HB HGg HO HTT HLg ⊢
                clear hgw
                generalize hgw : u1.heap.size = g at HGg HTg HLg HNg ⊢
                clear hgw
                try simp only [Act.put, List.getElem_toArray, List.getElem_cons_succ, List.getElem_cons_zero, List.setIfInBounds_toArray, List.set_cons_zero, List.set_cons_succ]
                refine reg_take (v := .slice A19 n19 c19) hR 10 rfl (by kernel_rfl) (by kernel_rfl) (by kernel_rfl) (fun _ _ _ h => by cases h.1) (by rfl) ?_ ?_
                · intro W hW; go_simp; try with_reducible rfl
                try simp only [Act.put, List.getElem_toArray, List.getElem_cons_succ, List.getElem_cons_zero, List.setIfInBounds_toArray, List.set_cons_zero, List.set_cons_succ]
                refine reg_take (v := .int .i64 (ek : Int)) hR 11 rfl (by kernel_rfl) (by kernel_rfl) (by kernel_rfl) (fun _ _ _ h => by cases h.1) (by rfl) ?_ ?_
                · intro W hW; go_simp; try with_reducible rfl
                try simp only [Act.put, List.getElem_toArray, List.getElem_cons_succ, List.getElem_cons_zero, List.setIfInBounds_toArray, List.set_cons_zero, List.set_cons_succ]
                refine reg_step hR 12 (by kernel_rfl) rfl fun K hK => ?_
                try simp only [Act.put, List.getElem_toArray, List.getElem_cons_succ, List.getElem_cons_zero, List.setIfInBounds_toArray, List.set_cons_zero, List.set_cons_succ]
                rw [if_pos (by rfl)]
                refine wp_store_bk 23 _ _ rfl g rfl (cs8 E) z36 rfl HGg.out (by rw [HE8.out]; exact info36) (by rw [HE8.out]; exact len_z36) (cs8_all _) ?_
                refine hK.out _ _ (below_setRow (Below.refl _ _) HTg.out _) ?_
                clear hK K
                have HGg := Lib.hid (HGg.out.setRow (cs8 E))
                have HO := Lib.hid (Rs.grown HO.out HTT.out (grown_setRow u2 g ((cs8 E)).toArray) HNg.out)
                have HTT := Lib.hid (show t ≤ (u2.setRow g ((cs8 E)).toArray).heap.size from Nat.le_trans HTT.out (grown_setRow u2 g ((cs8 E)).toArray).size)
                have HB := Lib.hid (below_setRow HB.out HTg.out ((cs8 E)).toArray)
                generalize hgw : u2.setRow g ((cs8 E)).toArray = u3 at HB HGg HO HTT ⊢
                clear hgw
                try simp only [Act.put, List.getElem_toArray, List.getElem_cons_succ, List.getElem_cons_zero, List.setIfInBounds_toArray, List.set_cons_zero, List.set_cons_succ]
                refine reg_done (by kernel_rfl) ?_ _
                refine ⟨rfl, g, t, A19, n19, c19, l19, ?_, HMP, HTg, HGg, HO, HTT, HB⟩
                simp only [puts, List.foldl_cons, List.foldl_nil, Act.put, List.getElem_toArray, List.getElem_cons_succ, List.getElem_cons_zero, List.setIfInBounds_toArray, List.set_cons_zero, List.set_cons_succ]
              · refine ⟨_, rfl, fun K hK => ?_⟩
                try simp only [Act.put, List.getElem_toArray, List.getElem_cons_succ, List.getElem_cons_zero, List.setIfInBounds_toArray, List.set_cons_zero, List.set_cons_succ]
                rw [if_pos (by rfl)]
                refine wp_alloc_z 23 rfl z36 zero36 ?_
                refine hK.out _ _ ((Below.refl _ _).alloc HB.out.size _) ?_
                clear hK K
                have HGg := Lib.hid (Bk.new u0 z36 23)
                have HTg := Lib.hid (show wr.heap.size ≤ u0.heap.size from HB.out.size)
                have HB := Lib.hid (HB.out.alloc HB.out.size (.cells z36.toArray 23))
                have HLg := Lib.hid (show u0.heap.size < (u0.alloc (.cells z36.toArray 23)).heap.size by simp)
                generalize hgw : u0.alloc (.cells z36.toArray 23) = u1 at HB HGg HLg ⊢
                clear hgw
                generalize hgw : u0.heap.size = g at HGg HTg HLg ⊢
                clear hgw
                try simp only [Act.put, List.getElem_toArray, List.getElem_cons_succ, List.getElem_cons_zero, List.setIfInBounds_toArray, List.set_cons_zero, List.set_cons_succ]
                refine reg_step hR 4 (by kernel_rfl) rfl fun K hK => ?_
                try simp only [Act.put, List.getElem_toArray, List.getElem_cons_succ, List.getElem_cons_zero, List.setIfInBounds_toArray, List.set_cons_zero, List.set_cons_succ]
                rw [if_pos (by rfl)]
                go_simp
                refine (HAll.out u1 ((HRK.out.below HB.out).more HB.out.size)).mono ?_; rintro e u2 ⟨A19, n19, c19, l19, rfl, hmap, hrs, hnew, hb⟩
                refine hK.out _ _ (show Below _ _ _ from hb.mono HB.out.size) ?_
                clear hK K
                have HMP := Lib.hid hmap
                clear hmap
                have HGg := Lib.hid (HGg.out.keep hb)
                obtain ⟨t, hte⟩ : ∃ t, t = u2.heap.size := ⟨_, rfl⟩
                rw [← hte] at hrs
                have HNg : Hid (Off g t A19 l19) := Lib.hid (hnew.off HLg.out)
                have HO := Lib.hid hrs
                have HTT := Lib.hid (Nat.le_of_eq hte)
                clear hte
                clear hrs hnew
                have HB := Lib.hid (HB.out.trans (hb.mono HB.out.size))
                clear hb
                have HLg := Lib.hid (show g < u2.heap.size from HGg.out.lt)
                try simp only [Act.put, List.getElem_toArray, List.getElem_cons_succ, List.getElem_cons_zero, List.setIfInBounds_toArray, List.set_cons_zero, List.set_cons_succ]
                refine reg_take (v := .tuple #[.slice A19 n19 c19, .int .i64 (ek : Int), .agg (cs8 E).toArray]) hR 5 rfl (by kernel_rfl) (by kernel_rfl) (by kernel_rfl) (fun _ _ _ h => by cases h.1) (by rfl) ?_ ?_
                · intro W hW; go_simp; try with_reducible rfl
                try simp only [Act.put, List.getElem_toArray, List.getElem_cons_succ, List.getElem_cons_zero, List.setIfInBounds_toArray, List.set_cons_zero, List.set_cons_succ]
                refine reg_take (v := .slice A19 n19 c19) hR 6 rfl (by kernel_rfl) (by kernel_rfl) (by kernel_rfl) (fun _ _ _ h => by cases h.1) (by rfl) ?_ ?_
                · intro W hW; go_simp; try with_reducible rfl
                try simp only [Act.put, List.getElem_toArray, List.getElem_cons_succ, List.getElem_cons_zero, List.setIfInBounds_toArray, List.set_cons_zero, List.set_cons_succ]
                refine reg_take (v := .int .i64 (ek : Int)) hR 7 rfl (by kernel_rfl) (by kernel_rfl) (by kernel_rfl) (fun _ _ _ h => by cases h.1) (by rfl) ?_ ?_
                · intro W hW; go_simp; try with_reducible rfl
                try simp only [Act.put, List.getElem_toArray, List.getElem_cons_succ, List.getElem_cons_zero, List.setIfInBounds_toArray, List.set_cons_zero, List.set_cons_succ]
                refine reg_take (v := .agg (cs8 E).toArray) hR 8 rfl (by kernel_rfl) (by kernel_rfl) (by kernel_rfl) (fun _ _ _ h => by cases h.1) (by rfl) ?_ ?_
                · intro W hW; go_simp; try with_reducible rfl
                try simp only [Act.put, List.getElem_toArray, List.getElem_cons_succ, List.getElem_cons_zero, List.setIfInBounds_toArray, List.set_cons_zero, List.set_cons_succ]
                refine reg_take (v := .slice A19 n19 c19) hR 10 rfl (by kernel_rfl) (by kernel_rfl) (by kernel_rfl) (fun _ _ _ h => by cases h.1) (by rfl) ?_ ?_
                · intro W hW; go_simp; try with_reducible rfl
                try simp only [Act.put, List.getElem_toArray, List.getElem_cons_succ, List.getElem_cons_zero, List.setIfInBounds_toArray, List.set_cons_zero, List.set_cons_succ]
                refine reg_take (v := .int .i64 (ek : Int)) hR 11 rfl (by kernel_rfl) (by kernel_rfl) (by kernel_rfl) (fun _ _ _ h => by cases h.1) (by rfl) ?_ ?_
                · intro W hW; go_simp; try with_reducible rfl
                try simp only [Act.put, List.getElem_toArray, List.getElem_cons_succ, List.getElem_cons_zero, List.setIfInBounds_toArray, List.set_cons_zero, List.set_cons_succ]
                refine reg_step hR 12 (by kernel_rfl) rfl fun K hK => ?_
                try simp only [Act.put, List.getElem_toArray, List.getElem_cons_succ, List.getElem_cons_zero, List.setIfInBounds_toArray, List.set_cons_zero, List.set_cons_succ]
                rw [if_pos (by rfl)]
                refine wp_store_bk 23 _ _ rfl g rfl (cs8 E) z36 rfl HGg.out (by rw [HE8.out]; exact info36) (by rw [HE8.out]; exact len_z36) (cs8_all _) ?_
                refine hK.out _ _ (below_setRow (Below.refl _ _) HTg.out _) ?_
                clear hK K
                have HGg := Lib.hid (HGg.out.setRow (cs8 E))
                have HO := Lib.hid (Rs.grown HO.out HTT.out (grown_setRow u2 g ((cs8 E)).toArray) HNg.out)
                have HTT := Lib.hid (show t ≤ (u2.setRow g ((cs8 E)).toArray).heap.size from Nat.le_trans HTT.out (grown_setRow u2 g ((cs8 E)).toArray).size)
                have HB := Lib.hid (below_setRow HB.out HTg.out ((cs8 E)).toArray)
                generalize hgw : u2.setRow g ((cs8 E)).toArray = u3 at HB HGg HO HTT ⊢
                clear hgw
                try simp only [Act.put, List.getElem_toArray, List.getElem_cons_succ, List.getElem_cons_zero, List.setIfInBounds_toArray, List.set_cons_zero, List.set_cons_succ]
                refine reg_done (by kernel_rfl) ?_ _
                refine ⟨rfl, g, t, A19, n19, c19, l19, ?_, HMP, HTg, HGg, HO, HTT, HB⟩
                simp only [puts, List.foldl_cons, List.foldl_nil, Act.put, List.getElem_toArray, List.getElem_cons_succ, List.getElem_cons_zero, List.setIfInBounds_toArray, List.set_cons_zero, List.set_cons_succ]
            · rintro a' w4 ⟨g, t, A19, n19, c19, l19, rfl, HMP, HTg, HGg, HO, HTT, HB⟩
              simp only [puts, List.foldl_cons, List.foldl_nil, Act.put, List.getElem_toArray, List.getElem_cons_succ, List.getElem_cons_zero, List.setIfInBounds_toArray, List.set_cons_zero, List.set_cons_succ]
              have hn19 : n19 ≤ 40 := by
                have h1 := congrArg List.length HMP.out
                rw [List.length_map, HO.out.1, List.length_take, HRL.out] at h1
                omega
              have hkc : k ≤ c8 := by have := HRS.out.2.1; omega
              have HRT := Lib.hid ((HRS.out.lift HB.out).take_ (k := k) hk)
              have hc9 : w4.cell? (a9.add k) = some (.int .i64 (ek : Int)) := by rw [← HEK.out]; exact (HB.out.cell (by rw [add_block]; exact HT9.out)).trans (HCE.out k hk)
              have hc10 : ∀ j v, (cs8 E)[j]? = some v → w4.cell? ((a10.add (k * 32)).add j) = some v := fun j v hv => (HB.out.cell (by rw [add_block, add_block]; exact HT10.out)).trans (HCH.out k hk j v (by rw [HEE.out]; exact hv))
              have HBW := Lib.hid (bl_call HBL.out HB.out)
              have ht9 : a9.block < w4.heap.size := Nat.lt_of_lt_of_le HT9.out HB.out.size
              have ht10 : a10.block < w4.heap.size := Nat.lt_of_lt_of_le HT10.out HB.out.size
              have HARR := Lib.hid (arr_same HE32.out)
              go_wp2
              have hR := Old.stays
              refine reg_start Old follows_mixed ?_
              have HR5 := Lib.hid (show Rs w4.drew w4.drew.heap.size A8 k c8 (gv.take k) from HRT.out.below (Below.refl _ w4).drew)
              have HO5 := Lib.hid (show Rs w4.drew w4.drew.heap.size A19 n19 c19 l19 from (HO.out.more HTT.out).below (Below.refl _ w4).drew)
              have HC5 := Lib.hid (show w4.drew.cell? (a9.add k) = some (.int .i64 (ek : Int)) from hc9)
              have HD5 := Lib.hid (show ∀ j v, (cs8 E)[j]? = some v → w4.drew.cell? ((a10.add (k * 32)).add j) = some v from hc10)
              have HG5 := Lib.hid HGg.out.drew
              have HB5 := Lib.hid (show Below w.heap.size w w4.drew from bl_call HBW.out (Below.refl _ w4).drew)
              have HT95 := Lib.hid (show (a9.add k).block < w4.drew.heap.size by rw [add_block]; exact ht9)
              have HT105 := Lib.hid (show (a10.add (k * 32)).block < w4.drew.heap.size by rw [add_block]; exact ht10)
              clear hc9 hc10 ht9 ht10 HRT HO HTT HGg HB HBW
              generalize w4.drew = w5 at HR5 HO5 HC5 HD5 HG5 HB5 HT95 HT105 ⊢
              refine reg_take (v := .slice A19 n19 c19) hR 0 rfl (by kernel_rfl) (by kernel_rfl) (by kernel_rfl) (fun _ _ _ h => h) (by rfl) ?_ ?_
              · intro W hW; go_simp; try with_reducible rfl
              try simp only [Act.put, List.getElem_toArray, List.getElem_cons_succ, List.getElem_cons_zero, List.setIfInBounds_toArray, List.set_cons_zero, List.set_cons_succ]
              refine reg_take (v := .slice A8 nn c8) hR 1 rfl (by kernel_rfl) (by kernel_rfl) (by kernel_rfl) (fun _ _ _ h => h) (by rfl) ?_ ?_
              · intro W hW; go_simp; try with_reducible rfl
              try simp only [Act.put, List.getElem_toArray, List.getElem_cons_succ, List.getElem_cons_zero, List.setIfInBounds_toArray, List.set_cons_zero, List.set_cons_succ]
              refine reg_take (v := .int .i64 (k : Int)) hR 2 rfl (by kernel_rfl) (by kernel_rfl) (by kernel_rfl) (fun _ _ _ h => h) (by rfl) ?_ ?_
              · intro W hW; go_simp; try with_reducible rfl
              try simp only [Act.put, List.getElem_toArray, List.getElem_cons_succ, List.getElem_cons_zero, List.setIfInBounds_toArray, List.set_cons_zero, List.set_cons_succ]
              refine reg_take (v := .slice A8 k c8) hR 3 rfl (by kernel_rfl) (by kernel_rfl) (by kernel_rfl) (fun _ _ _ h => h) (by rfl) ?_ ?_
              · intro W hW; exact exec_slice39_hi _ _ rfl rfl rfl hkc rfl
              try simp only [Act.put, List.getElem_toArray, List.getElem_cons_succ, List.getElem_cons_zero, List.setIfInBounds_toArray, List.set_cons_zero, List.set_cons_succ]
              refine reg_step hR 4 (by kernel_rfl) rfl fun K hK => ?_
              try simp only [Act.put, List.getElem_toArray, List.getElem_cons_succ, List.getElem_cons_zero, List.setIfInBounds_toArray, List.set_cons_zero, List.set_cons_succ]
              go_simp
              refine (Records_yes w5 HO5.out HR5.out (by omega) (by rw [HMP.out, r_, List.map_take])).mono ?_; rintro e w6 ⟨rfl, hb⟩
              refine hK.out _ _ hb ?_
              have HC6 := Lib.hid ((hb.cell HT95.out).trans HC5.out)
              have HD6 := Lib.hid (cells_keep HD5.out HT105.out hb)
              have HT96 := Lib.hid (Nat.lt_of_lt_of_le HT95.out hb.size)
              have HT106 := Lib.hid (Nat.lt_of_lt_of_le HT105.out hb.size)
              have HG6 := Lib.hid (HG5.out.keep hb)
              have HB6 := Lib.hid (bl_call HB5.out hb)
              clear hb HR5 HO5 HC5 HD5 HG5 HB5 HT95 HT105
              clear hK K
              try simp only [Act.put, List.getElem_toArray, List.getElem_cons_succ, List.getElem_cons_zero, List.setIfInBounds_toArray, List.set_cons_zero, List.set_cons_succ]
              refine reg_take (v := .bool true) hR 5 rfl (by kernel_rfl) (by kernel_rfl) (by kernel_rfl) (fun _ _ _ h => h) (by rfl) ?_ ?_
              · intro W hW; go_simp; try with_reducible rfl
              try simp only [Act.put, List.getElem_toArray, List.getElem_cons_succ, List.getElem_cons_zero, List.setIfInBounds_toArray, List.set_cons_zero, List.set_cons_succ]
              refine reg_take (v := .int .i64 (ek : Int)) hR 6 rfl (by kernel_rfl) (by kernel_rfl) (by kernel_rfl) (fun _ _ _ h => h) (by rfl) ?_ ?_
              · intro W hW; go_simp; try with_reducible rfl
              try simp only [Act.put, List.getElem_toArray, List.getElem_cons_succ, List.getElem_cons_zero, List.setIfInBounds_toArray, List.set_cons_zero, List.set_cons_succ]
              refine reg_take (v := .slice (some a9) (nn + 1) k9) hR 7 rfl (by kernel_rfl) (by kernel_rfl) (by kernel_rfl) (fun _ _ _ h => h) (by rfl) ?_ ?_
              · intro W hW; go_simp; try with_reducible rfl
              try simp only [Act.put, List.getElem_toArray, List.getElem_cons_succ, List.getElem_cons_zero, List.setIfInBounds_toArray, List.set_cons_zero, List.set_cons_succ]
              refine reg_take (v := .int .i64 (k : Int)) hR 8 rfl (by kernel_rfl) (by kernel_rfl) (by kernel_rfl) (fun _ _ _ h => h) (by rfl) ?_ ?_
              · intro W hW; go_simp; try with_reducible rfl
              try simp only [Act.put, List.getElem_toArray, List.getElem_cons_succ, List.getElem_cons_zero, List.setIfInBounds_toArray, List.set_cons_zero, List.set_cons_succ]
              refine reg_take (v := .pointer (some (a9.add k))) hR 9 rfl (by kernel_rfl) (by kernel_rfl) (by kernel_rfl) (fun _ _ _ h => h) (by rfl) ?_ ?_
              · intro W hW; go_simp; try (intro h; omega)
              try simp only [Act.put, List.getElem_toArray, List.getElem_cons_succ, List.getElem_cons_zero, List.setIfInBounds_toArray, List.set_cons_zero, List.set_cons_succ]
              refine reg_take (v := .int .i64 (ek : Int)) hR 10 rfl (by kernel_rfl) (by kernel_rfl) (by kernel_rfl) (fun _ _ _ h => h) (by rfl) ?_ ?_
              · intro W hW; exact exec_load_cell 3 _ rfl Try.isAgg3 rfl ((hW.cell HT96.out).trans HC6.out)
              try simp only [Act.put, List.getElem_toArray, List.getElem_cons_succ, List.getElem_cons_zero, List.setIfInBounds_toArray, List.set_cons_zero, List.set_cons_succ]
              refine reg_take (v := .bool true) hR 11 rfl (by kernel_rfl) (by kernel_rfl) (by kernel_rfl) (fun _ _ _ h => h) (by rfl) ?_ ?_
              · intro W hW; go_simp; try with_reducible rfl
              try simp only [Act.put, List.getElem_toArray, List.getElem_cons_succ, List.getElem_cons_zero, List.setIfInBounds_toArray, List.set_cons_zero, List.set_cons_succ]
              refine reg_take (v := .bool true) hR 12 rfl (by kernel_rfl) (by kernel_rfl) (by kernel_rfl) (fun _ _ _ h => h) (by rfl) ?_ ?_
              · intro W hW; go_simp; try with_reducible rfl
              try simp only [Act.put, List.getElem_toArray, List.getElem_cons_succ, List.getElem_cons_zero, List.setIfInBounds_toArray, List.set_cons_zero, List.set_cons_succ]
              refine reg_take (v := .bool true) hR 13 rfl (by kernel_rfl) (by kernel_rfl) (by kernel_rfl) (fun _ _ _ h => h) (by rfl) ?_ ?_
              · intro W hW; go_simp; try with_reducible rfl
              try simp only [Act.put, List.getElem_toArray, List.getElem_cons_succ, List.getElem_cons_zero, List.setIfInBounds_toArray, List.set_cons_zero, List.set_cons_succ]
              refine reg_take (v := .agg (cs8 E).toArray) hR 14 rfl (by kernel_rfl) (by kernel_rfl) (by kernel_rfl) (fun _ _ _ h => h) (by rfl) ?_ ?_
              · intro W hW; exact exec_load_at 23 _ rfl ⟨g, 0, none⟩ rfl (cs8 E) _ (HG6.out.keep hW).at_ Try.underlying23 rfl (by rw [HE8.out]; exact info36)
              try simp only [Act.put, List.getElem_toArray, List.getElem_cons_succ, List.getElem_cons_zero, List.setIfInBounds_toArray, List.set_cons_zero, List.set_cons_succ]
              refine reg_take (v := .slice (some a10) (nn + 1) k10) hR 15 rfl (by kernel_rfl) (by kernel_rfl) (by kernel_rfl) (fun _ _ _ h => h) (by rfl) ?_ ?_
              · intro W hW; go_simp; try with_reducible rfl
              try simp only [Act.put, List.getElem_toArray, List.getElem_cons_succ, List.getElem_cons_zero, List.setIfInBounds_toArray, List.set_cons_zero, List.set_cons_succ]
              refine reg_take (v := .int .i64 (k : Int)) hR 16 rfl (by kernel_rfl) (by kernel_rfl) (by kernel_rfl) (fun _ _ _ h => h) (by rfl) ?_ ?_
              · intro W hW; go_simp; try with_reducible rfl
              try simp only [Act.put, List.getElem_toArray, List.getElem_cons_succ, List.getElem_cons_zero, List.setIfInBounds_toArray, List.set_cons_zero, List.set_cons_succ]
              refine reg_take (v := .pointer (some (a10.add (k * 32)))) hR 17 rfl (by kernel_rfl) (by kernel_rfl) (by kernel_rfl) (fun _ _ _ h => h) (by rfl) ?_ ?_
              · intro W hW; go_simp; try (intro h; omega)
              try simp only [Act.put, List.getElem_toArray, List.getElem_cons_succ, List.getElem_cons_zero, List.setIfInBounds_toArray, List.set_cons_zero, List.set_cons_succ]
              refine reg_take (v := .agg (cs8 E).toArray) hR 18 rfl (by kernel_rfl) (by kernel_rfl) (by kernel_rfl) (fun _ _ _ h => h) (by rfl) ?_ ?_
              · intro W hW; exact exec_load_at 23 _ rfl (a10.add (k * 32)) rfl (cs8 E) _ (cells_keep HD6.out HT106.out hW) Try.underlying23 rfl (by rw [HE8.out]; exact info36)
              try simp only [Act.put, List.getElem_toArray, List.getElem_cons_succ, List.getElem_cons_zero, List.setIfInBounds_toArray, List.set_cons_zero, List.set_cons_succ]
              refine reg_take (v := .bool true) hR 19 rfl (by kernel_rfl) (by kernel_rfl) (by kernel_rfl) (fun _ _ _ h => h) (by rfl) ?_ ?_
              · intro W hW; have harr := HARR.out; go_simp; try with_reducible rfl
              try simp only [Act.put, List.getElem_toArray, List.getElem_cons_succ, List.getElem_cons_zero, List.setIfInBounds_toArray, List.set_cons_zero, List.set_cons_succ]
              refine reg_take (v := .bool true) hR 20 rfl (by kernel_rfl) (by kernel_rfl) (by kernel_rfl) (fun _ _ _ h => h) (by rfl) ?_ ?_
              · intro W hW; go_simp; try with_reducible rfl
              try simp only [Act.put, List.getElem_toArray, List.getElem_cons_succ, List.getElem_cons_zero, List.setIfInBounds_toArray, List.set_cons_zero, List.set_cons_succ]
              refine reg_take (v := .bool true) hR 21 rfl (by kernel_rfl) (by kernel_rfl) (by kernel_rfl) (fun _ _ _ h => h) (by rfl) ?_ ?_
              · intro W hW; go_simp; try with_reducible rfl
              try simp only [Act.put, List.getElem_toArray, List.getElem_cons_succ, List.getElem_cons_zero, List.setIfInBounds_toArray, List.set_cons_zero, List.set_cons_succ]
              refine reg_done (by kernel_rfl) ?_ _
              go_wp2
              go_ret
              exact ⟨rfl, HB6.out⟩
end Go.Proofs.Ytjaoaikcmbfnmaa
