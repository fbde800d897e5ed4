/- record: records$1, the iterator. -/
import Derived.Test.YtgpfognglpfmoaaGreatDoorZ11
set_option linter.unusedSimpArgs false
set_option linter.unusedVariables false
namespace Go.Proofs.YtgpfognglpfmoaaGreatDoor
set_option maxRecDepth 100000
set_option linter.unusedSimpArgs false
set_option linter.unusedVariables false
open Go.RowKit Go.Shelf

attribute [local go_sem] Oper.semAt_some

/-- What the iterator hands on: a record, the chain behind it. -/
structure It where
  v : Rv
  ch : List UInt8
def It.r (x : It) : UInt8 × List UInt8 := (x.v.k, x.v.d)
def rsOf (xs : List It) : List (UInt8 × List UInt8) := xs.map It.r
theorem rsOf_snoc (xs : List It) (x : It) : rsOf (xs ++ [x]) = rsOf xs ++ [x.r] := by simp [rsOf]
/-- What a round keeps of what the iterator needs: what lay below n₀, block q, and what was laid since b1. -/
structure Kept (n₀ q b1 : Nat) (W W' : World) : Prop where
  below : Below n₀ W W'
  size : W.heap.size ≤ W'.heap.size
  blk : ∀ k, k = q ∨ (b1 ≤ k ∧ k < W.heap.size) → W'.heap[k]? = W.heap[k]?
theorem Kept.bk {n₀ q b1 g : Nat} {W W' : World} {cs : List Value} (h : Kept n₀ q b1 W W') (hb : Bk W g cs) (hg : g = q ∨ b1 ≤ g) : Bk W' g cs := by
  have hl := hb.lt
  obtain ⟨t, hb⟩ := hb
  exact ⟨t, (h.blk g (hg.imp id fun e => ⟨e, hl⟩)).trans hb⟩
def lenSl : Value → Nat | .slice _ m _ => m | _ => 0
theorem grown_of_below {w w' : World} {g : Nat} (h : Below w.heap.size w w') : w.grownBy w' (some g) := ⟨h.os, h.tape, h.output, h.size, fun k hk _ => h.block k hk⟩
theorem grown_setRow (w : World) (g : Nat) (cs : Array Value) : w.grownBy (w.setRow g cs) (some g) := ⟨rfl, rfl, rfl, by simp [World.setRow], fun k _ hk => setRow_other w g k cs (fun e => hk (by rw [e]))⟩

set_option maxHeartbeats 3200000 in
theorem iter_in (n : Nat) (hn : 1 ≤ n) (l bB bC n₀ : Nat) (A : Option Addr) (m c : Nat) (C b : List UInt8) (hC : C.length = 32) (hm : m ≤ 1073741824) (J : List It → World → Prop) (W0 : World)
    (hJ : ∀ pre X Y, J pre X → X.grownBy Y (some W0.heap.size) → J pre Y)
    (hY : ∀ pre (x : It) X W1, J pre X → W0.heap.size < X.heap.size → Below X.heap.size X W1 → Ow W1 X.heap.size (.slice x.v.A x.v.d.length x.v.c) x.v.d → Vr x.v.k x.v.d → x.ch = nextR (endR C (rsOf pre)) x.v.k x.v.d →
      (recsB C (rsOf pre)).length + (recB (endR C (rsOf pre)) x.v.k x.v.d).length ≤ m →
      YieldAt Fence.wide (n - 1) Tryz.prog l #[.agg #[.int .u8 (x.v.k.toNat : Int), .slice x.v.A x.v.d.length x.v.c], .agg (cs8 x.ch).toArray] W1 fun e W' =>
        e = .returned (.bool true) ∧ J (pre ++ [x]) W' ∧ Kept n₀ W0.heap.size X.heap.size W1 W')
    (hcB : W0.cell? ⟨bB, 0, none⟩ = some (.slice A m c)) (hcC : Bk W0 bC (cs8 C)) (hr : Rd W0 n₀ A m c b) (hn₀ : n₀ ≤ W0.heap.size) (h0 : J [] W0) :
    CallsIn Fence.wide n Tryz.prog 125 #[.func (.yield l) #[] #[], .pointer (some ⟨bB, 0, none⟩), .pointer (some ⟨bC, 0, none⟩)] W0 fun e W' => (∃ v, e = .returned v) ∧
      ∃ xs tail, b = recsB C (rsOf xs) ++ tail ∧ Vrs (rsOf xs) ∧ readErr (endR C (rsOf xs)) tail ≠ 0 ∧ J xs W' := by
  have HC8 := Lib.hid (show (cs8 C).length = 32 by rw [cs8_length, hC])
  have HCC := Lib.hid hcC
  have HR := Lib.hid hr
  have HJ := Lib.hid hJ
  have HY := Lib.hid hY
  have hlen := hr.len
  have HLEN := Lib.hid hlen
  clear hcC hr hJ hY hlen
  refine callsIn_of_wp Tryz.func125 rfl trivial ?_ rfl
  simp only [Tryz.ntmps125, List.size_toArray, List.length_cons, List.length_nil, Nat.reduceAdd, Nat.reduceSub, Array.replicate_succ, Array.replicate_zero, List.push_toArray, List.append_toArray, List.nil_append, List.cons_append]
  refine wpIn_wide.2 ?_
  go_wp2
  have hbl : bB < W0.heap.size := block_lt_of_cell hcB
  have hR := Kp.stays (fun k => W0.heap.size ≤ k)
  refine reg_start (Kp (fun k => W0.heap.size ≤ k)) follows_mixed ?_
  have hcB1 : W0.drew.cell? ⟨bB, 0, none⟩ = some (.slice A m c) := hcB
  have HCC1 := Lib.hid HCC.out.drew
  have h01 := HJ.out _ _ _ h0 (grown_of_below (Below.refl _ W0).drew)
  have HR1 := Lib.hid (HR.out.below (Below.refl _ W0).drew)
  have hs1 : W0.drew.heap.size = W0.heap.size := rfl
  have hlC := HCC.out.lt
  clear HCC HR hcB h0
  generalize W0.drew = W1 at hcB1 HCC1 h01 HR1 hs1 ⊢
  refine reg_take (v := .slice A m c) hR 0 rfl (by kernel_rfl) (by kernel_rfl) (by kernel_rfl) (fun _ _ _ h => h) (by rfl) ?_ ?_
  · intro W hW; exact exec_load_cell 31 _ rfl Tryz.isAgg31 rfl ((hW.cell (p := ⟨bB, 0, none⟩) (by show bB < W1.heap.size; omega) (by show ¬ W0.heap.size ≤ bB; omega)).trans hcB1)
  try simp only [Act.put, List.getElem_toArray, List.getElem_cons_succ, List.getElem_cons_zero, List.setIfInBounds_toArray, List.set_cons_zero, List.set_cons_succ]
  refine reg_take (v := .agg (cs8 C).toArray) hR 1 rfl (by kernel_rfl) (by kernel_rfl) (by kernel_rfl) (fun _ _ _ h => h) (by rfl) ?_ ?_
  · intro W hW; exact exec_load_at 59 _ rfl ⟨bC, 0, none⟩ rfl (cs8 C) _ (HCC1.out.kp hW (by omega)).at_ Tryz.underlying59 rfl (by rw [HC8.out]; exact info36)
  try simp only [Act.put, List.getElem_toArray, List.getElem_cons_succ, List.getElem_cons_zero, List.setIfInBounds_toArray, List.set_cons_zero, List.set_cons_succ]
  refine reg_step hR 2 (by kernel_rfl) rfl fun K hK => ?_
  try simp only [Act.put, List.getElem_toArray, List.getElem_cons_succ, List.getElem_cons_zero, List.setIfInBounds_toArray, List.set_cons_zero, List.set_cons_succ]
  rw [if_pos (by rfl)]
  refine wp_alloc_z 59 rfl z36 zero36 ?_
  refine hK.out _ _ (Kp.of_old (bl_alloc (bl0 W1) _)) ?_
  rw [hs1]
  clear hK K
  try simp only [Act.put, List.getElem_toArray, List.getElem_cons_succ, List.getElem_cons_zero, List.setIfInBounds_toArray, List.set_cons_zero, List.set_cons_succ]
  refine reg_take (v := .slice A m c) hR 3 rfl (by kernel_rfl) (by kernel_rfl) (by kernel_rfl) (fun _ _ _ h => h) (by rfl) ?_ ?_
  · intro W hW; go_simp; try with_reducible rfl
  try simp only [Act.put, List.getElem_toArray, List.getElem_cons_succ, List.getElem_cons_zero, List.setIfInBounds_toArray, List.set_cons_zero, List.set_cons_succ]
  refine reg_step hR 4 (by kernel_rfl) rfl fun K hK => ?_
  try simp only [Act.put, List.getElem_toArray, List.getElem_cons_succ, List.getElem_cons_zero, List.setIfInBounds_toArray, List.set_cons_zero, List.set_cons_succ]
  rw [if_pos (by rfl)]
  have hZ2 : Hid (Bk (W1.alloc (.cells z36.toArray 59)) W0.heap.size z36) := Lib.hid (by rw [← hs1]; exact Bk.new W1 z36 59)
  refine wp_store_bk 59 _ _ rfl W0.heap.size rfl (cs8 C) z36 rfl hZ2.out (by rw [HC8.out]; exact info36) (by rw [HC8.out]; exact len_z36) (cs8_all _) ?_
  refine hK.out _ _ (kp_setRow _ _ _ (Nat.le_refl _)) ?_
  clear hK K
  try simp only [Act.put, List.getElem_toArray, List.getElem_cons_succ, List.getElem_cons_zero, List.setIfInBounds_toArray, List.set_cons_zero, List.set_cons_succ]
  refine reg_done (by kernel_rfl) ?_ _
  have hQ3 := Lib.hid (hZ2.out.setRow (cs8 C))
  have h03 := HJ.out _ _ _ (HJ.out _ _ _ h01 (grown_of_below (bl_alloc (bl0 W1) (.cells z36.toArray 59)))) (grown_setRow (W1.alloc (.cells z36.toArray 59)) W0.heap.size (cs8 C).toArray)
  have hbb : Below W0.heap.size W1 ((W1.alloc (.cells z36.toArray 59)).setRow W0.heap.size (cs8 C).toArray) := below_setRow ((Below.refl _ W1).alloc (by omega) _) (Nat.le_refl _) _
  have HR3 := Lib.hid (HR1.out.below (hbb.mono hn₀))
  have hs3 := hQ3.out.lt
  clear hZ2 hcB1 HCC1 h01 HR1 hbb
  generalize (W1.alloc (.cells z36.toArray 59)).setRow W0.heap.size (cs8 C).toArray = W3 at hQ3 h03 HR3 hs3 ⊢
  clear hs1 hbl hlC
  go_wp2
  refine (wpIn_wide (n := n)).1 ?_
  gi_loopw [4] (fun v4 wr => ∃ (pre : List It) (rest : List UInt8) (A' : Option Addr) (m' c' : Nat), v4 = .slice A' m' c' ∧ Hid (Rd wr n₀ A' m' c' rest) ∧ Hid (b = recsB C (rsOf pre) ++ rest) ∧ Hid (Vrs (rsOf pre)) ∧
      Hid (Bk wr W0.heap.size (cs8 (endR C (rsOf pre)))) ∧ Hid (J pre wr)) (fun v4 _ => lenSl v4)
  case atStart => exact ⟨[], b, A, m, c, rfl, HR3, Lib.hid rfl, Lib.hid (fun r hr => by cases hr), hQ3, Lib.hid h03⟩
  case round =>
    clear HR3 hQ3 h03 hs3
    obtain ⟨pre, rest, A', m', c', rfl, HR, HE, HV, HQ, HJp⟩ := hrel
    have hE32 : (endR C (rsOf pre)).length = 32 := endR_length C hC _
    have HE8 := Lib.hid (show (cs8 (endR C (rsOf pre))).length = 32 by rw [cs8_length, hE32])
    have hml := HR.out.len
    have HML := Lib.hid hml
    have hbl2 := congrArg List.length HE.out
    rw [List.length_append, HLEN.out] at hbl2
    have hm' : m' ≤ 1073741824 := by omega
    have HBL2 := Lib.hid hbl2
    clear hbl2 hml
    have hn0r : n₀ ≤ wr.heap.size := by have := HQ.out.lt; omega
    by_cases h0 : readErr (endR C (rsOf pre)) rest = 0
    · have hb := read_back _ _ h0
      generalize (parse rest).kind = k at hb
      generalize (parse rest).data = d at hb
      generalize (parse rest).rest = t at hb
      have HRD := Lib.hid (fun (X : World) (h : Rd X X.heap.size A' m' c' rest) => Read_good X hE32 h hm' k d t hb.2 hb.1)
      clear h0
      have HVD := Lib.hid hb.2
      have hd8 := hb.2.2
      have HRE := Lib.hid hb.1
      have hrl := congrArg List.length hb.1
      rw [List.length_append, HML.out] at hrl
      have hRL := Lib.hid hrl
      have HN8 := Lib.hid (show (cs8 (nextR (endR C (rsOf pre)) k d)).length = 32 by rw [cs8_length, nextR_length])
      clear hb hrl
      gi_wp2_with (first | (refine inl_load_at rfl 59 _ rfl ⟨W0.heap.size, 0, none⟩ rfl (cs8 (endR C (rsOf pre))) _ HQ.out.at_ Tryz.underlying59 rfl (by rw [HE8.out]; exact info36) ?_) | fail)
      refine ⟨trivial, (callsIn_wide.2 (HRD.out wr (HR.out.more hn0r))).mono ?_⟩; rintro e w2 ⟨A2, n2, c2, rfl, ho, hb⟩
      obtain ⟨A3, c3, e3, _⟩ := ho.rdN rfl
      injection e3 with e31 e32 e33
      subst e31 e32 e33
      have hl2 := lay2 w2 [.int .u8 (k.toNat : Int), .slice A2 d.length c2] (cs8 (nextR (endR C (rsOf pre)) k d))
      have hb2 := bl_call hb hl2.bel
      have hq0 := HQ.out.lt
      have HYI := Lib.hid (HY.out pre ⟨⟨k, d, A2, c2⟩, nextR (endR C (rsOf pre)) k d⟩ wr _ HJp.out hq0 hb2 (ho.below hl2.bel) HVD.out rfl (by have h1 := hRL.out; have h2 := HBL2.out; have h3 := HML.out; show (recsB C (rsOf pre)).length + (recB (endR C (rsOf pre)) k d).length ≤ m; omega))
      have HR2 := Lib.hid (HR.out.below (hb2.mono hn0r))
      have HQ2 := Lib.hid (HQ.out.keep hb2)
      have HT6 := Lib.hid hl2.r
      have HT8 := Lib.hid hl2.s
      have hwr2 := hb.size
      clear hl2 hb hb2 ho HJp HQ HR
      have HSE : Hid (endR C (rsOf pre ++ [(k, d)]) = nextR (endR C (rsOf pre)) k d) := Lib.hid (by rw [endR_append]; rfl)
      have HRB : Hid (recsB C (rsOf pre ++ [(k, d)]) = recsB C (rsOf pre) ++ recB (endR C (rsOf pre)) k d) := Lib.hid (by rw [recsB_append]; simp [recsB])
      have hsz1 : 1 ≤ (recB (endR C (rsOf pre)) k d).length := by rw [recB_length]; omega
      generalize nextR (endR C (rsOf pre)) k d = S at HN8 HYI HT6 HT8 HR2 HQ2 HSE ⊢
      generalize hsz : (recB (endR C (rsOf pre)) k d).length = sz at hRL hsz1 ⊢
      have HSZ := Lib.hid hsz
      clear hsz
      have hszm : sz ≤ m' := by have := hRL.out; omega
      obtain ⟨fn, tmps, assign, body, hy, hRd⟩ := HYI.out
      dsimp only at hy
      have hc0 := HT6.out.cell (k := 0) rfl
      have hc1 := HT6.out.cell (k := 1) rfl
      gi_wp2_with (first | (refine inl_alloc_z rfl 59 rfl z36 zero36 ?_) | (refine inl_store_bk rfl 59 _ _ rfl (w2.heap.size + 1) rfl (cs8 S) z36 rfl (bk_lay w2 _) (by rw [HN8.out]; exact info36) (by rw [HN8.out]; exact len_z36) (cs8_all _) ?_) | (refine inl_load_at rfl 59 _ rfl ⟨w2.heap.size + 1, 0, none⟩ rfl (cs8 S) _ HT8.out.at_ Tryz.underlying59 rfl (by rw [HN8.out]; exact info36) ?_) | fail)
      refine hRd.mono ?_
      rintro e W3 ⟨rfl, hJ3, hk3⟩
      have HJ3 := Lib.hid hJ3
      have HR3 := Lib.hid (HR2.out.below hk3.below)
      have HQ3 := Lib.hid (hk3.bk HQ2.out (.inl rfl))
      have HT3 := Lib.hid (hk3.bk HT8.out (.inr (by omega)))
      clear hy hRd HYI hJ3 hk3 HR2 HQ2 HT6 HT8 hc0 hc1
      gi_wp2
      refine wpIn_wide.2 ?_
      have hR := Kp.stays (fun k => k = W0.heap.size)
      refine reg_start (Kp (fun k => k = W0.heap.size)) follows_mixed ?_
      have HJ4 := Lib.hid (HJ.out _ _ _ HJ3.out (grown_of_below (Below.refl _ W3).drew))
      have HR4 := Lib.hid (HR3.out.below (Below.refl _ W3).drew)
      have HQ4 := Lib.hid HQ3.out.drew
      have HT4 := Lib.hid HT3.out.drew
      clear HJ3 HR3 HQ3 HT3
      generalize W3.drew = W4 at HJ4 HR4 HQ4 HT4 ⊢
      refine reg_take (v := .slice A' m' c') hR 0 rfl (by kernel_rfl) (by kernel_rfl) (by kernel_rfl) (fun _ _ _ h => h) (by rfl) ?_ ?_
      · intro W hW; go_simp; try with_reducible rfl
      try simp only [Act.put, List.getElem_toArray, List.getElem_cons_succ, List.getElem_cons_zero, List.setIfInBounds_toArray, List.set_cons_zero, List.set_cons_succ]
      refine reg_take (v := .int .i64 (sz : Int)) hR 1 rfl (by kernel_rfl) (by kernel_rfl) (by kernel_rfl) (fun _ _ _ h => h) (by rfl) ?_ ?_
      · intro W hW; go_simp; try with_reducible rfl
      try simp only [Act.put, List.getElem_toArray, List.getElem_cons_succ, List.getElem_cons_zero, List.setIfInBounds_toArray, List.set_cons_zero, List.set_cons_succ]
      refine reg_take (v := .slice (restAt A' c' sz) (m' - sz) (c' - sz)) hR 2 rfl (by kernel_rfl) (by kernel_rfl) (by kernel_rfl) (fun _ _ _ h => h) (by rfl) ?_ ?_
      · intro W hW; exact exec_slice31_lo _ _ rfl rfl rfl hszm rfl
      try simp only [Act.put, List.getElem_toArray, List.getElem_cons_succ, List.getElem_cons_zero, List.setIfInBounds_toArray, List.set_cons_zero, List.set_cons_succ]
      refine reg_take (v := .agg (cs8 S).toArray) hR 3 rfl (by kernel_rfl) (by kernel_rfl) (by kernel_rfl) (fun _ _ _ h => h) (by rfl) ?_ ?_
      · intro W hW; exact exec_load_at 59 _ rfl ⟨w2.heap.size + 1, 0, none⟩ rfl (cs8 S) _ (HT4.out.kp hW (by omega)).at_ Tryz.underlying59 rfl (by rw [HN8.out]; exact info36)
      try simp only [Act.put, List.getElem_toArray, List.getElem_cons_succ, List.getElem_cons_zero, List.setIfInBounds_toArray, List.set_cons_zero, List.set_cons_succ]
      refine reg_take (v := .slice (restAt A' c' sz) (m' - sz) (c' - sz)) hR 4 rfl (by kernel_rfl) (by kernel_rfl) (by kernel_rfl) (fun _ _ _ h => h) (by rfl) ?_ ?_
      · intro W hW; go_simp; try with_reducible rfl
      try simp only [Act.put, List.getElem_toArray, List.getElem_cons_succ, List.getElem_cons_zero, List.setIfInBounds_toArray, List.set_cons_zero, List.set_cons_succ]
      refine reg_step hR 5 (by kernel_rfl) rfl fun K hK => ?_
      try simp only [Act.put, List.getElem_toArray, List.getElem_cons_succ, List.getElem_cons_zero, List.setIfInBounds_toArray, List.set_cons_zero, List.set_cons_succ]
      rw [if_pos (by rfl)]
      refine wp_store_bk 59 _ _ rfl W0.heap.size rfl (cs8 S) (cs8 (endR C (rsOf pre))) rfl HQ4.out (by rw [HN8.out]; exact info36) (by rw [HN8.out]; exact HE8.out) (cs8_all _) ?_
      refine hK.out _ _ (kp_setRow _ _ _ rfl) ?_
      clear hK K
      try simp only [Act.put, List.getElem_toArray, List.getElem_cons_succ, List.getElem_cons_zero, List.setIfInBounds_toArray, List.set_cons_zero, List.set_cons_succ]
      refine reg_done (by kernel_rfl) ?_ _
      have HJ5 := Lib.hid (HJ.out _ _ _ HJ4.out (grown_setRow W4 W0.heap.size (cs8 S).toArray))
      have hd := HR4.out.drop_ hszm
      have HR5 : Hid (Rd (W4.setRow W0.heap.size (cs8 S).toArray) n₀ (restAt A' c' sz) (m' - sz) (c' - sz) t) := Lib.hid (by
        rw [HRE.out, ← HSZ.out, List.drop_left] at hd
        rw [HSZ.out] at hd
        exact hd.below (below_setRow (Below.refl _ _) (by omega) _))
      have HQ5 := Lib.hid (HQ4.out.setRow (cs8 S))
      clear HJ4 HR4 HQ4 HT4 hd
      generalize W4.setRow W0.heap.size (cs8 S).toArray = W5 at HJ5 HR5 HQ5 ⊢
      dsimp +zetaDelta only [Exit.inBlock, Exit.then]
      go_roundw
      case rel =>
        refine ⟨pre ++ [⟨⟨k, d, A2, c2⟩, S⟩], t, _, _, _, rfl, HR5, Lib.hid ?_, Lib.hid ?_, Lib.hid ?_, HJ5⟩
        · rw [rsOf_snoc, show (It.r ⟨⟨k, d, A2, c2⟩, S⟩) = (k, d) from rfl, HRB.out, List.append_assoc, ← HRE.out]
          exact HE.out
        · rw [rsOf_snoc]
          intro r hr
          rcases List.mem_append.1 hr with hr | hr
          · exact HV.out r hr
          · rw [List.mem_singleton] at hr
            subst hr
            exact HVD.out
        · rw [rsOf_snoc, show (It.r ⟨⟨k, d, A2, c2⟩, S⟩) = (k, d) from rfl, HSE.out]
          exact HQ5.out
      case measure => show m' - sz < m'; omega
    · have HRD := Lib.hid (fun (X : World) (h : Rd X X.heap.size A' m' c' rest) => Read_fail X hE32 h hm' h0)
      have hez : (readErr (endR C (rsOf pre)) rest == 0) = false := by rw [beq_eq_false_iff_ne]; exact h0
      have hez3 := Lib.hid h0
      have HFIN : Hid (∀ X, J pre X → ∃ xs tail, b = recsB C (rsOf xs) ++ tail ∧ Vrs (rsOf xs) ∧ readErr (endR C (rsOf xs)) tail ≠ 0 ∧ J xs X) := Lib.hid fun X hX => ⟨pre, rest, HE.out, HV.out, h0, hX⟩
      generalize readErr (endR C (rsOf pre)) rest = E at HRD hez
      generalize endR C (rsOf pre) = S at HRD HQ HE8
      have hez2 : (E != 0) = true := by rw [bne, hez]; rfl
      have hez4 : ¬ E = 0 := by simpa using hez
      clear h0
      gi_wp2_with (first | (refine inl_load_at rfl 59 _ rfl ⟨W0.heap.size, 0, none⟩ rfl (cs8 S) _ HQ.out.at_ Tryz.underlying59 rfl (by rw [HE8.out]; exact info36) ?_) | fail)
      refine ⟨trivial, (callsIn_wide.2 (HRD.out wr (HR.out.more hn0r))).mono ?_⟩; rintro e w2 ⟨rfl, hb⟩
      have hl2 := lay2 w2 [.int .u8 0, .slice none 0 0] z36
      have hb2 := bl_call hb hl2.bel
      have HJ2 := Lib.hid (HJ.out _ _ _ HJp.out (grown_of_below hb2))
      clear hl2 hb hb2
      gi_wp2_with (first | (refine inl_alloc_z rfl 59 rfl z36 zero36 ?_) | (refine inl_store_bk rfl 59 _ _ rfl (w2.heap.size + 1) rfl z36 z36 rfl (bk_lay w2 _) (by kernel_rfl) rfl all_z36 ?_) | fail)
      refine ⟨(fun f h => by cases h), ?_⟩
      gi_wp2
      refine bodyPost_ret (results_none rfl _ _ _) rfl ?_
      exact ⟨⟨_, rfl⟩, HFIN.out _ HJ2.out⟩
end Go.Proofs.YtgpfognglpfmoaaGreatDoor
