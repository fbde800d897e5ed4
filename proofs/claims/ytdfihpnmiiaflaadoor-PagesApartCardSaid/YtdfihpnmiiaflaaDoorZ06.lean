/- Texts of this claim, one behind the other: Sum, Kw, Ww. -/
import Derived.Test.YtdfihpnmiiaflaaDoorZ05
import Derived.Test.YtdfihpnmiiaflaaDoorZ00
set_option linter.unusedSimpArgs false
set_option linter.unusedVariables false
section
/- A sum of bytes: sum. -/
namespace Go.Proofs.YtdfihpnmiiaflaaDoor
set_option maxRecDepth 8192
open Go.RowKit

/-- A slice of slices of bytes, that reads. -/
def Rl (w : World) (top : Nat) (B : Option Addr) (m : Nat) (L : List (List UInt8)) : Prop :=
  L.length = m ∧ ∀ j x, L[j]? = some x → ∃ ad A n c, B = some ad ∧ ad.block < top ∧ w.cell? (ad.add j) = some (.slice A n c) ∧ Rd w top A n c x ∧ (∀ a, A = some a → a.block < top)
theorem Rl.below {w w' : World} {top m : Nat} {B : Option Addr} {L : List (List UInt8)} (h : Rl w top B m L) (hb : Below top w w') : Rl w' top B m L :=
  ⟨h.1, fun j x hx => by
    obtain ⟨ad, A, n, c, e, hl, hc, hr, hA⟩ := h.2 j x hx
    exact ⟨ad, A, n, c, e, hl, (hb.cell (by rw [add_block]; exact hl)).trans hc, hr.below hb, hA⟩⟩

/-- All that lies below a block stays. -/
def Sb (top : Nat) (w w' : World) : Prop := Below top w w'
theorem Sb.stays (top : Nat) : Stays (Sb top) := ⟨fun w => Below.refl _ w, fun h k => Below.trans h k⟩

section
variable {P : Program} {ops : Array Oper} {Q : Exit → Act → World → Prop} {R : World → World → Prop}
/-- Two operations are ready: either order. -/
theorem reg_branch (hR : Stays R) (i k : Nat) {oi ok : Oper} {fuel : Nat} {listed : Array Bool} {a : Act} {w : World} (hr : Region.ready .any ops listed = [i, k]) (hoi : ops[i]? = some oi) (hok : ops[k]? = some ok)
    (h1 : ∀ K : Act → World → Prop, Shut (∀ a' w', R w w' → wpAnyH P .any ops Q (R w') fuel (listed.setIfInBounds i true) a' w' → K a' w') →
      if Region.wanted oi (yielded ops a.tmps) = true then Oper.wp P oi a w K Q else K (a.put oi.dst undef) w)
    (h2 : ∀ K : Act → World → Prop, Shut (∀ a' w', R w w' → wpAnyH P .any ops Q (R w') fuel (listed.setIfInBounds k true) a' w' → K a' w') →
      if Region.wanted ok (yielded ops a.tmps) = true then Oper.wp P ok a w K Q else K (a.put ok.dst undef) w) : wpAnyH P .any ops Q (R w) (fuel + 1) listed a w := by
  refine wpAnyH_all hr (by simp) fun j hj => ?_
  have hj' : j = i ∨ j = k := by simpa using hj
  rcases hj' with rfl | rfl
  · have h1 := h1 (fun a' w' => R w w' ∧ wpAnyH P .any ops Q (R w) fuel (listed.setIfInBounds j true) a' w') (fun a' w' hw hh => ⟨hw, held_weaken (fun W hW => hR.trans hw hW) _ _ _ _ hh⟩)
    unfold wpOp
    simp only [hoi]
    split
    · rename_i hw; rw [if_pos hw] at h1; exact .inl h1
    · rename_i hw; rw [if_neg hw] at h1; exact h1
  · have h1 := h2 (fun a' w' => R w w' ∧ wpAnyH P .any ops Q (R w) fuel (listed.setIfInBounds j true) a' w') (fun a' w' hw hh => ⟨hw, held_weaken (fun W hW => hR.trans hw hW) _ _ _ _ hh⟩)
    unfold wpOp
    simp only [hok]
    split
    · rename_i hw; rw [if_pos hw] at h1; exact .inl h1
    · rename_i hw; rw [if_neg hw] at h1; exact h1
end

/-- make([]byte, 0, C), as one operation. -/
theorem wp_make0 {w : World} {o : Oper} {a : Act} {K : Act → World → Prop} {Q : Exit → Act → World → Prop} (l c : Operand)
    (ho : o.op = Op.makeSlice 30 l c) {kl kc : IntKind} (C : Nat) (hl : a.eval l = .int kl 0) (hc : a.eval c = .int kc (C : Int)) (h1 : C ≤ 140737488355328)
    (h : ∀ w', Ow w' w.heap.size (.slice (some ⟨w.heap.size, 0, none⟩) 0 C) [] → Below w.heap.size w w' → w'.heap.size = w.heap.size + 1 → K (a.put o.dst (.slice (some ⟨w.heap.size, 0, none⟩) 0 C)) w') : o.wp Tryd.prog a w K Q := by
  obtain ⟨i, hi, hz0, hz1, hz2⟩ := info_parts info_u8
  have hm : (maxLen : Int) = 9223372036854775807 := by simp [maxLen]
  have hr := run_make (P := Tryd.prog) w 30 5 i (.int .u8 0) Tryd.underlying30 hi hz0 kl kc 0 C (Int.le_refl _) (by omega) (by rw [hz2]; omega) (by omega)
  rw [Int.toNat_natCast] at hr
  unfold Oper.wp execOp
  simp only [ho, hl, hc, hr, Sem.run_bind, Result.andThen_ok, Sem.run_pure]
  refine h _ ?_ ((Below.refl _ _).alloc (Nat.le_refl _) _) (by simp)
  have := World.ownsRow_made (base := w.heap.size) (e := 5) (size := 1) w (madeCells (Value.int .u8 0).cells (C * i.size)) C (Nat.le_refl _) (by simp only [maxLen]; omega) (by rw [size_madeCells, hz1])
  simpa [Ow, cs8] using this
theorem rn_one (gk : Nat) (st : List UInt64) (A : Option Addr) (n c : Nat) : (rn gk st (.slice A n c)).toArray.all (·.oneCell') = true := by
  rw [Array.all_eq_true_iff_forall_mem]
  intro x hx
  have hx' : x ∈ rn gk st (.slice A n c) := by simpa using hx
  rw [rn, List.mem_cons, List.mem_append] at hx'
  rcases hx' with e | e | e
  · subst e; rfl
  · rw [cs64, List.mem_map] at e; obtain ⟨u, _, rfl⟩ := e; rfl
  · rw [List.mem_singleton] at e; subst e; rfl
/-- The struct of a sum, made of its fields. -/
theorem exec_build60 {o : Oper} {a : Act} {w : World} {gk n c : Nat} {A : Option Addr} {st : List UInt64} (hs : st.length = 8) (x y z : Operand) (ho : o.op = .build 106 #[(0, x), (1, y), (2, z)])
    (hx : a.eval x = .pointer (some ⟨gk, 0, none⟩)) (hy : a.eval y = .agg (cs64 st).toArray) (hz : a.eval z = .slice A n c) : (execOp a.eval o).run Tryd.prog w = .ok (.value (.agg (rn gk st (.slice A n c)).toArray)) w := by
  obtain ⟨a0, b0, c0, d0, e0, f0, g0, h0, rfl⟩ := eight hs
  have hb : Tryd.prog.built 106 [(0, .pointer (some ⟨gk, 0, none⟩)), (1, .agg (cs64 [a0, b0, c0, d0, e0, f0, g0, h0]).toArray), (2, .slice A n c)] = some (rn gk [a0, b0, c0, d0, e0, f0, g0, h0] (.slice A n c)).toArray := by kernel_rfl
  unfold execOp
  simp only [ho, List.map_toArray, List.map_cons, List.map_nil, hx, hy, hz]
  rw [Sem.run_bind, run_build w 106 _ _ hb]
  rfl
theorem len_z60 : z60.length = 10 := by decide +kernel

theorem Ow.setRow {w : World} {base k : Nat} {v : Value} {xs : List UInt8} (h : Ow w base v xs) (hne : v.ownBlock ≠ some k) (cs : Array Value) : Ow (w.setRow k cs) base v xs :=
  World.ownsRow.kept h ⟨rfl, rfl, rfl, by simp [World.setRow], fun j _ hj => setRow_other w k j cs (fun e => hj (by rw [e]))⟩ (Or.inr hne)
/-- A sum that is under way, behind the bytes F: what stays beside it. -/
structure Going (w : World) (base g gk : Nat) (KA st : List UInt64) (F : List UInt8) (w0 : World) (v : Value) : Prop where
  run : Run w base g gk KA (eat KA (F.length / 128) st F) (left F) v
  old : Below base w0 w
  res : Bk w (base + 1) z33
  apart : v.ownBlock ≠ some (base + 1)
  far : base + 2 ≤ g
theorem Going.keep {w w' w0 : World} {base g gk : Nat} {KA st : List UInt64} {F : List UInt8} {v : Value} (h : Going w base g gk KA st F w0 v) (hb : Below w.heap.size w w') : Going w' base g gk KA st F w0 v := by
  have hlt := h.res.lt
  exact ⟨⟨h.run.bk.keep hb, Ow.below h.run.row hb, h.run.ne, h.run.hg, h.run.kb.keep hb, h.run.hgk, h.run.len, h.run.kl⟩, h.old.trans (hb.mono (by omega)), h.res.keep hb, h.apart, h.far⟩
theorem take_flat (L : List (List UInt8)) (t : Nat) (h : t < L.length) : (L.take (t + 1)).flatten = (L.take t).flatten ++ L[t] := by
  rw [List.take_succ_eq_append_getElem h, List.flatten_append]; simp
theorem flat_le (L : List (List UInt8)) (t : Nat) : (L.take t).flatten.length ≤ L.flatten.length := by
  have := congrArg (fun l => l.flatten.length) (List.take_append_drop t L)
  simp only [List.flatten_append, List.length_append] at this
  omega
theorem Going.put {w w' w0 : World} {base g gk : Nat} {KA st : List UInt64} {F l : List UInt8} {v : Value} (h : Going w base g gk KA st F w0 v)
    (hp : Put w base g gk KA (eat KA ((left F ++ l).length / 128) (eat KA (F.length / 128) st F) (left F ++ l)) (left (left F ++ l)) v w') : ∃ v', Going w' base g gk KA st (F ++ l) w0 v' := by
  obtain ⟨v', hr, hk, hf⟩ := hp
  obtain ⟨e1, e2⟩ := eat_more KA l _ F st rfl
  rw [e1, e2] at hr
  have hlt := h.res.lt
  have hbs : base ≤ w.heap.size := by omega
  refine ⟨v', hr, ?_, ?_, ?_, h.far⟩
  · refine h.old.trans ⟨hk.os, hk.tape, hk.output, hk.size, fun i hi => hk.block i (by omega) ?_⟩
    rintro (e | e)
    · have := h.far; omega
    · have := (World.ownsRow.lt h.run.row i e).1; omega
  · obtain ⟨t, hb⟩ := h.res
    refine ⟨t, (hk.block _ hlt ?_).trans hb⟩
    rintro (e | e)
    · have := h.far; omega
    · exact h.apart e
  · rcases hf with e | ⟨k, e, hk2⟩
    · rw [e]; exact h.apart
    · rw [e]; intro e2; injection e2 with e2; omega

set_option maxHeartbeats 1600000 in
set_option maxRecDepth 8192 in
theorem sum_any {B : Option Addr} {m c gk : Nat} {L : List (List UInt8)} {KA st : List UInt64} (w : World) (hL : Rl w w.heap.size B m L) (hm : m ≤ 1073741824) (hT : L.flatten.length ≤ 1073741824) (hs : st.length = 8) (hKA : 80 ≤ KA.length) (hK : Bk w gk (cs64 KA)) :
    Calls Tryd.prog 58 #[.pointer (some ⟨gk, 0, none⟩), .agg (cs64 st).toArray, .slice B m c] w fun e w' => e = .returned (.agg (cs8 (sumOf KA st L.flatten)).toArray) ∧ Below w.heap.size w w' := by
  have HSL := Lib.hid (show (cs64 st).length = 8 by rw [cs64_length, hs])
  have HL := Lib.hid hL
  have HK := Lib.hid hK
  have HS := Lib.hid hs
  have HKA := Lib.hid hKA
  clear hL hK hs hKA
  go_enter Tryd.func58, Tryd.ntmps58
  go_wp2_with (refine wpList_alloc_z rfl 85 rfl z33 zero33 ?_)
  have hB0 : Below w.heap.size w ((w.alloc (.cells (cs64 st).toArray 87)).alloc (.cells z33.toArray 85)) := bl_alloc (bl_alloc (bl0 w) _) _
  have HBX : Hid (Bk ((w.alloc (.cells (cs64 st).toArray 87)).alloc (.cells z33.toArray 85)) w.heap.size (cs64 st)) := Lib.hid ((Bk.new w (cs64 st) 87).old _)
  have HRS : Hid (Bk ((w.alloc (.cells (cs64 st).toArray 87)).alloc (.cells z33.toArray 85)) (w.heap.size + 1) z33) := Lib.hid (by
    have := Bk.new (w.alloc (.cells (cs64 st).toArray 87)) z33 85
    simpa using this)
  have hsz : ((w.alloc (.cells (cs64 st).toArray 87)).alloc (.cells z33.toArray 85)).heap.size = w.heap.size + 2 := by simp
  rw [show (w.alloc (.cells (cs64 st).toArray 87)).heap.size = w.heap.size + 1 from by simp]
  generalize (w.alloc (.cells (cs64 st).toArray 87)).alloc (.cells z33.toArray 85) = w1 at hB0 HBX HRS hsz ⊢
  have hRs := Sb.stays (w.heap.size + 2)
  refine reg_start (Sb (w.heap.size + 2)) follows_mixed ?_
  have hB1 := Lib.hid hB0.drew
  have hX1 := Lib.hid HBX.out.drew
  have hS1 := Lib.hid HRS.out.drew
  have hz1 : w1.drew.heap.size = w.heap.size + 2 := hsz
  clear HBX HRS hB0
  generalize w1.drew = w2 at hB1 hX1 hS1 hz1 ⊢
  refine reg_take (v := .pointer (some ⟨gk, 0, none⟩)) hRs 0 rfl (by kernel_rfl) (by kernel_rfl) (by kernel_rfl) (fun _ _ _ h => h) (by rfl) ?_ ?_
  · intro W hW; go_simp
  try simp only [Act.put, List.getElem_toArray, List.getElem_cons_succ, List.getElem_cons_zero, List.setIfInBounds_toArray, List.set_cons_zero, List.set_cons_succ]
  refine reg_take (v := .agg (cs64 st).toArray) hRs 1 rfl (by kernel_rfl) (by kernel_rfl) (by kernel_rfl) (fun _ _ _ h => h) (by rfl) ?_ ?_
  · intro W hW; exact exec_load_at 87 _ rfl ⟨w.heap.size, 0, none⟩ rfl (cs64 st) _ ((hX1.out.below hW (by omega)).at_) Tryd.underlying87 rfl (by rw [HSL.out]; exact info38)
  try simp only [Act.put, List.getElem_toArray, List.getElem_cons_succ, List.getElem_cons_zero, List.setIfInBounds_toArray, List.set_cons_zero, List.set_cons_succ]
  refine reg_branch hRs 2 4 (by kernel_rfl) rfl rfl (fun K hK => ?_) (fun K hK => ?_)
  · try simp only [Act.put, List.getElem_toArray, List.getElem_cons_succ, List.getElem_cons_zero, List.setIfInBounds_toArray, List.set_cons_zero, List.set_cons_succ]
    rw [if_pos (by rfl)]
    refine wp_make0 _ _ rfl 128 rfl rfl (by omega) ?_
    intro w3 ho3 hb3 hs3
    refine hK.out _ _ (hb3.mono (by omega)) ?_
    clear hK K
    try simp only [Act.put, List.getElem_toArray, List.getElem_cons_succ, List.getElem_cons_zero, List.setIfInBounds_toArray, List.set_cons_zero, List.set_cons_succ]
    refine reg_take (v := .agg (rn gk st (.slice (some ⟨w2.heap.size, 0, none⟩) 0 128)).toArray) hRs 3 rfl (by kernel_rfl) (by kernel_rfl) (by kernel_rfl) (fun _ _ _ h => h) (by rfl) ?_ ?_
    · intro W hW; exact exec_build60 HS.out _ _ _ rfl rfl rfl rfl
    try simp only [Act.put, List.getElem_toArray, List.getElem_cons_succ, List.getElem_cons_zero, List.setIfInBounds_toArray, List.set_cons_zero, List.set_cons_succ]
    refine reg_step hRs 4 (by kernel_rfl) rfl fun K hK => ?_
    try simp only [Act.put, List.getElem_toArray, List.getElem_cons_succ, List.getElem_cons_zero, List.setIfInBounds_toArray, List.set_cons_zero, List.set_cons_succ]
    rw [if_pos (by rfl)]
    refine wp_alloc_z 106 rfl z60 zero60 ?_
    have HZ := Lib.hid (Bk.new w3 z60 106)
    have ho4 := Lib.hid (Ow.alloc ho3 (.cells z60.toArray 106))
    have hb4 := Lib.hid (bl_alloc hb3 (.cells z60.toArray 106))
    have hs4 : (w3.alloc (.cells z60.toArray 106)).heap.size = w.heap.size + 4 := by simp; omega
    refine hK.out _ _ ((Below.refl _ _).alloc (by omega) _) ?_
    clear hK K ho3 hb3
    generalize w3.alloc (.cells z60.toArray 106) = w4 at HZ ho4 hb4 hs4 ⊢
    try simp only [Act.put, List.getElem_toArray, List.getElem_cons_succ, List.getElem_cons_zero, List.setIfInBounds_toArray, List.set_cons_zero, List.set_cons_succ]
    refine reg_step hRs 5 (by kernel_rfl) rfl fun K hK => ?_
    try simp only [Act.put, List.getElem_toArray, List.getElem_cons_succ, List.getElem_cons_zero, List.setIfInBounds_toArray, List.set_cons_zero, List.set_cons_succ]
    rw [if_pos (by rfl)]
    refine wp_store_bk 106 _ _ rfl w3.heap.size rfl (rn gk st (.slice (some ⟨w2.heap.size, 0, none⟩) 0 128)) z60 rfl HZ.out (by rw [rn_length _ _ _ HS.out]; exact info60) (by rw [rn_length _ _ _ HS.out]; exact len_z60) (rn_one _ _ _ _ _) ?_
    refine hK.out _ _ (below_setRow (Below.refl _ _) (by omega) _) ?_
    clear hK K
    try simp only [Act.put, List.getElem_toArray, List.getElem_cons_succ, List.getElem_cons_zero, List.setIfInBounds_toArray, List.set_cons_zero, List.set_cons_succ]
    refine reg_done (by kernel_rfl) ?_ _
    have HGO : Hid (Going (w4.setRow w3.heap.size (rn gk st (.slice (some ⟨w2.heap.size, 0, none⟩) 0 128)).toArray) w.heap.size w3.heap.size gk KA st [] w (Value.slice (some ⟨w2.heap.size, 0, none⟩) 0 128)) := Lib.hid ⟨⟨HZ.out.setRow _, (ho4.out.lower (by omega)).setRow (by simp [Value.ownBlock]; omega) _, by simp [Value.ownBlock]; omega, by omega, (HK.out.below (hB1.out.trans (hb4.out.mono (by omega))) HK.out.lt).other (by have := HK.out.lt; omega) _, HK.out.lt, by rw [List.length_nil]; exact HS.out, HKA.out⟩,
      below_setRow (hB1.out.trans (hb4.out.mono (by omega))) (by omega) _, (hS1.out.below hb4.out (by omega)).other (by omega) _, by simp [Value.ownBlock]; omega, by omega⟩
    clear HZ ho4 hb4 hX1 hS1 hB1
    generalize (w4.setRow w3.heap.size (rn gk st (.slice (some ⟨w2.heap.size, 0, none⟩) 0 128)).toArray) = wA at HGO ⊢
    generalize w3.heap.size = G at HGO ⊢
    generalize (Value.slice (some ⟨w2.heap.size, 0, none⟩) 0 128) = vA at HGO ⊢
    go_wp2
    go_loopw [8, 17] (fun v8 v17 wr => ∃ (t z : Nat) (v : Value), t ≤ m ∧ v17 = .int .i64 (t : Int) ∧ v8 = .int .u64 (z : Int) ∧ z ≤ 1073741824 ∧ Hid (z = (L.take t).flatten.length) ∧ Hid (Going wr w.heap.size G gk KA st (L.take t).flatten w v)) (fun _ v17 _ => m - (intOf v17).toNat)
    case atStart => exact ⟨0, 0, vA, by omega, rfl, rfl, by omega, Lib.hid rfl, HGO⟩
    case round =>
      clear HGO
      obtain ⟨t, z, v, ht, rfl, rfl, hz, HZ, HGO⟩ := hrel
      by_cases hlt : t < m
      · obtain ⟨ad, A, n, c', rfl, hadl, hcell, hrd, hAl⟩ := (HL.out.below HGO.out.old).2 t (L[t]'(by rw [HL.out.1]; exact hlt)) (List.getElem?_eq_getElem _)
        have hfl := take_flat L t (by rw [HL.out.1]; exact hlt)
        have hxl := hrd.len
        have hle : (L.take (t + 1)).flatten.length ≤ 1073741824 := Nat.le_trans (flat_le L (t + 1)) hT
        have hHL := HL.out.1
        generalize L[t]'(by rw [hHL]; exact hlt) = x at hrd hfl hxl
        have HFL := Lib.hid hfl
        have hsum : (L.take (t + 1)).flatten.length = z + n := by rw [hfl, List.length_append, hxl, HZ.out]
        have HSUM := Lib.hid hsum
        rw [hsum] at hle
        clear hsum
        have HRD := Lib.hid hrd
        have HAL := Lib.hid hAl
        clear hrd hAl hfl hxl hHL
        go_wp2_with fail
        refine (put_any wr HGO.out.run (left_length _) (HRD.out.more HGO.out.old.size) (by omega) (fun a h => ⟨?_, ?_⟩)).mono ?_
        · have := HAL.out a h; have := HGO.out.far; omega
        · intro e; have := (World.ownsRow.lt HGO.out.run.row _ e).1; have := HAL.out a h; omega
        rintro e w5 ⟨rfl, hP⟩
        obtain ⟨v', hG⟩ := HGO.out.put hP
        rw [← HFL.out] at hG
        have HG := Lib.hid hG
        clear hP hG
        go_wp2
        go_roundw
        case rel => exact ⟨t + 1, z + n, v', by omega, by go_num, by go_num, by omega, Lib.hid HSUM.out.symm, HG⟩
        case measure => simp [intOf]; omega
      · obtain rfl : t = m := by omega
        have hfl : (L.take t).flatten = L.flatten := by rw [List.take_of_length_le (by rw [HL.out.1]; exact Nat.le_refl _)]
        rw [hfl] at HGO HZ
        have HT := Lib.hid hT
        clear hT hfl
        have HPA := Lib.hid (padding_any z (by omega))
        have HZ2 := Lib.hid HZ.out
        clear HZ
        obtain ⟨TL, hTL⟩ : ∃ TL, Hid (padB z = TL) := ⟨_, Lib.hid rfl⟩
        rw [hTL.out] at HPA
        have hpl := padB_length z
        rw [hTL.out] at hpl
        have hpq : (239 - z % 128) % 128 < 128 := Nat.mod_lt _ (by omega)
        have hTLl : TL.length ≤ 145 := by omega
        clear hpl hpq
        have hB7 := HGO.out.run.bk.lt
        go_wp2_with fail
        refine (HPA.out _).mono ?_; rintro e w5 ⟨v5, rfl, ho5, hb5⟩
        obtain ⟨A5, c5, rfl, hr5⟩ := ho5.rdN rfl
        have HG5 := Lib.hid (HGO.out.keep hb5)
        go_wp2_with fail
        refine (put_any w5 HG5.out.run (left_length _) hr5 (by omega) (fun a h => ?_)).mono ?_
        · have hge : wr.heap.size ≤ a.block := (World.ownsRow.lt ho5 a.block (by rw [h]; rfl)).1
          refine ⟨by omega, fun e => ?_⟩
          have := (World.ownsRow.lt HGO.out.run.row _ e).2
          omega
        rintro e w6 ⟨rfl, hP⟩
        obtain ⟨v', hG⟩ := HG5.out.put hP
        have HG6 := Lib.hid hG
        have HSO := Lib.hid (show sumOf KA st L.flatten = signsOf (eat KA ((L.flatten ++ TL).length / 128) st (L.flatten ++ TL)) from by rw [sumOf, ← HZ2.out, hTL.out])
        have HS6 := Lib.hid hG.run.len
        clear hP hG ho5 hb5 hr5 HGO HG5
        obtain ⟨S6, h6⟩ : ∃ S6, S6 = eat KA ((L.flatten ++ TL).length / 128) st (L.flatten ++ TL) := ⟨_, rfl⟩
        rw [← h6] at HSO HS6
        have HS6L := Lib.hid (show (cs64 S6).length = 8 by rw [cs64_length, HS6.out])
        have HSG := Lib.hid (signs_any S6 HS6.out)
        have HRU : Hid (Bk w6 G (rn gk S6 v')) := Lib.hid (by rw [h6]; exact HG6.out.run.bk)
        clear h6
        go_wp2_with (refine wpList_load_at rfl 87 _ rfl _ rfl (cs64 S6) _ (HRU.out.range (rn_words gk S6 v')) Tryd.underlying87 rfl (by rw [HS6L.out]; exact info38) ?_)
        refine (HSG.out _).mono ?_; rintro e w7 ⟨rfl, hb7⟩
        have HG7 := Lib.hid (HG6.out.keep hb7)
        have HLS := Lib.hid (show (cs8 (signsOf S6)).length = 64 by rw [cs8_length, signs_length, HS6.out])
        go_wp2_with (refine wpList_store_bk rfl 85 _ _ rfl (w.heap.size + 1) rfl (cs8 (signsOf S6)) z33 rfl HG7.out.res (by rw [HLS.out]; exact info33) (by rw [HLS.out]; exact len_z33) (cs8_all _) ?_)
        refine ret_bk rfl (w.heap.size + 1) _ _ rfl rfl (HG7.out.res.setRow _) Tryd.underlying85 rfl (by rw [HLS.out]; exact info33) ⟨?_, below_setRow HG7.out.old (by omega) _⟩
        rw [HSO.out]
  · try simp only [Act.put, List.getElem_toArray, List.getElem_cons_succ, List.getElem_cons_zero, List.setIfInBounds_toArray, List.set_cons_zero, List.set_cons_succ]
    rw [if_pos (by rfl)]
    refine wp_alloc_z 106 rfl z60 zero60 ?_
    have HZ0 := Lib.hid (Bk.new w2 z60 106)
    have hb3 := Lib.hid (bl_alloc (bl0 w2) (.cells z60.toArray 106))
    have hs3 : (w2.alloc (.cells z60.toArray 106)).heap.size = w.heap.size + 3 := by simp; omega
    refine hK.out _ _ ((Below.refl _ _).alloc (by omega) _) ?_
    clear hK K
    generalize w2.alloc (.cells z60.toArray 106) = w3 at HZ0 hb3 hs3 ⊢
    try simp only [Act.put, List.getElem_toArray, List.getElem_cons_succ, List.getElem_cons_zero, List.setIfInBounds_toArray, List.set_cons_zero, List.set_cons_succ]
    refine reg_step hRs 2 (by kernel_rfl) rfl fun K hK => ?_
    try simp only [Act.put, List.getElem_toArray, List.getElem_cons_succ, List.getElem_cons_zero, List.setIfInBounds_toArray, List.set_cons_zero, List.set_cons_succ]
    rw [if_pos (by rfl)]
    refine wp_make0 _ _ rfl 128 rfl rfl (by omega) ?_
    intro w4 ho4 hb4 hs4
    refine hK.out _ _ (hb4.mono (by omega)) ?_
    have HZ := Lib.hid (HZ0.out.below hb4 (by omega))
    have hb4 := Lib.hid (bl_call hb3.out hb4)
    clear hK K HZ0 hb3
    try simp only [Act.put, List.getElem_toArray, List.getElem_cons_succ, List.getElem_cons_zero, List.setIfInBounds_toArray, List.set_cons_zero, List.set_cons_succ]
    refine reg_take (v := .agg (rn gk st (.slice (some ⟨w3.heap.size, 0, none⟩) 0 128)).toArray) hRs 3 rfl (by kernel_rfl) (by kernel_rfl) (by kernel_rfl) (fun _ _ _ h => h) (by rfl) ?_ ?_
    · intro W hW; exact exec_build60 HS.out _ _ _ rfl rfl rfl rfl
    try simp only [Act.put, List.getElem_toArray, List.getElem_cons_succ, List.getElem_cons_zero, List.setIfInBounds_toArray, List.set_cons_zero, List.set_cons_succ]
    refine reg_step hRs 5 (by kernel_rfl) rfl fun K hK => ?_
    try simp only [Act.put, List.getElem_toArray, List.getElem_cons_succ, List.getElem_cons_zero, List.setIfInBounds_toArray, List.set_cons_zero, List.set_cons_succ]
    rw [if_pos (by rfl)]
    refine wp_store_bk 106 _ _ rfl w2.heap.size rfl (rn gk st (.slice (some ⟨w3.heap.size, 0, none⟩) 0 128)) z60 rfl HZ.out (by rw [rn_length _ _ _ HS.out]; exact info60) (by rw [rn_length _ _ _ HS.out]; exact len_z60) (rn_one _ _ _ _ _) ?_
    refine hK.out _ _ (below_setRow (Below.refl _ _) (by omega) _) ?_
    clear hK K
    try simp only [Act.put, List.getElem_toArray, List.getElem_cons_succ, List.getElem_cons_zero, List.setIfInBounds_toArray, List.set_cons_zero, List.set_cons_succ]
    refine reg_done (by kernel_rfl) ?_ _
    have HGO : Hid (Going (w4.setRow w2.heap.size (rn gk st (.slice (some ⟨w3.heap.size, 0, none⟩) 0 128)).toArray) w.heap.size w2.heap.size gk KA st [] w (Value.slice (some ⟨w3.heap.size, 0, none⟩) 0 128)) := Lib.hid ⟨⟨HZ.out.setRow _, (ho4.lower (by omega)).setRow (by simp [Value.ownBlock]; omega) _, by simp [Value.ownBlock]; omega, by omega, (HK.out.below (hB1.out.trans (hb4.out.mono (by omega))) HK.out.lt).other (by have := HK.out.lt; omega) _, HK.out.lt, by rw [List.length_nil]; exact HS.out, HKA.out⟩,
      below_setRow (hB1.out.trans (hb4.out.mono (by omega))) (by omega) _, (hS1.out.below hb4.out (by omega)).other (by omega) _, by simp [Value.ownBlock]; omega, by omega⟩
    clear HZ ho4 hb4 hX1 hS1 hB1
    generalize (w4.setRow w2.heap.size (rn gk st (.slice (some ⟨w3.heap.size, 0, none⟩) 0 128)).toArray) = wA at HGO ⊢
    generalize w2.heap.size = G at HGO ⊢
    generalize (Value.slice (some ⟨w3.heap.size, 0, none⟩) 0 128) = vA at HGO ⊢
    go_wp2
    go_loopw [8, 17] (fun v8 v17 wr => ∃ (t z : Nat) (v : Value), t ≤ m ∧ v17 = .int .i64 (t : Int) ∧ v8 = .int .u64 (z : Int) ∧ z ≤ 1073741824 ∧ Hid (z = (L.take t).flatten.length) ∧ Hid (Going wr w.heap.size G gk KA st (L.take t).flatten w v)) (fun _ v17 _ => m - (intOf v17).toNat)
    case atStart => exact ⟨0, 0, vA, by omega, rfl, rfl, by omega, Lib.hid rfl, HGO⟩
    case round =>
      clear HGO
      obtain ⟨t, z, v, ht, rfl, rfl, hz, HZ, HGO⟩ := hrel
      by_cases hlt : t < m
      · obtain ⟨ad, A, n, c', rfl, hadl, hcell, hrd, hAl⟩ := (HL.out.below HGO.out.old).2 t (L[t]'(by rw [HL.out.1]; exact hlt)) (List.getElem?_eq_getElem _)
        have hfl := take_flat L t (by rw [HL.out.1]; exact hlt)
        have hxl := hrd.len
        have hle : (L.take (t + 1)).flatten.length ≤ 1073741824 := Nat.le_trans (flat_le L (t + 1)) hT
        have hHL := HL.out.1
        generalize L[t]'(by rw [hHL]; exact hlt) = x at hrd hfl hxl
        have HFL := Lib.hid hfl
        have hsum : (L.take (t + 1)).flatten.length = z + n := by rw [hfl, List.length_append, hxl, HZ.out]
        have HSUM := Lib.hid hsum
        rw [hsum] at hle
        clear hsum
        have HRD := Lib.hid hrd
        have HAL := Lib.hid hAl
        clear hrd hAl hfl hxl hHL
        go_wp2_with fail
        refine (put_any wr HGO.out.run (left_length _) (HRD.out.more HGO.out.old.size) (by omega) (fun a h => ⟨?_, ?_⟩)).mono ?_
        · have := HAL.out a h; have := HGO.out.far; omega
        · intro e; have := (World.ownsRow.lt HGO.out.run.row _ e).1; have := HAL.out a h; omega
        rintro e w5 ⟨rfl, hP⟩
        obtain ⟨v', hG⟩ := HGO.out.put hP
        rw [← HFL.out] at hG
        have HG := Lib.hid hG
        clear hP hG
        go_wp2
        go_roundw
        case rel => exact ⟨t + 1, z + n, v', by omega, by go_num, by go_num, by omega, Lib.hid HSUM.out.symm, HG⟩
        case measure => simp [intOf]; omega
      · obtain rfl : t = m := by omega
        have hfl : (L.take t).flatten = L.flatten := by rw [List.take_of_length_le (by rw [HL.out.1]; exact Nat.le_refl _)]
        rw [hfl] at HGO HZ
        have HT := Lib.hid hT
        clear hT hfl
        have HPA := Lib.hid (padding_any z (by omega))
        have HZ2 := Lib.hid HZ.out
        clear HZ
        obtain ⟨TL, hTL⟩ : ∃ TL, Hid (padB z = TL) := ⟨_, Lib.hid rfl⟩
        rw [hTL.out] at HPA
        have hpl := padB_length z
        rw [hTL.out] at hpl
        have hpq : (239 - z % 128) % 128 < 128 := Nat.mod_lt _ (by omega)
        have hTLl : TL.length ≤ 145 := by omega
        clear hpl hpq
        have hB7 := HGO.out.run.bk.lt
        go_wp2_with fail
        refine (HPA.out _).mono ?_; rintro e w5 ⟨v5, rfl, ho5, hb5⟩
        obtain ⟨A5, c5, rfl, hr5⟩ := ho5.rdN rfl
        have HG5 := Lib.hid (HGO.out.keep hb5)
        go_wp2_with fail
        refine (put_any w5 HG5.out.run (left_length _) hr5 (by omega) (fun a h => ?_)).mono ?_
        · have hge : wr.heap.size ≤ a.block := (World.ownsRow.lt ho5 a.block (by rw [h]; rfl)).1
          refine ⟨by omega, fun e => ?_⟩
          have := (World.ownsRow.lt HGO.out.run.row _ e).2
          omega
        rintro e w6 ⟨rfl, hP⟩
        obtain ⟨v', hG⟩ := HG5.out.put hP
        have HG6 := Lib.hid hG
        have HSO := Lib.hid (show sumOf KA st L.flatten = signsOf (eat KA ((L.flatten ++ TL).length / 128) st (L.flatten ++ TL)) from by rw [sumOf, ← HZ2.out, hTL.out])
        have HS6 := Lib.hid hG.run.len
        clear hP hG ho5 hb5 hr5 HGO HG5
        obtain ⟨S6, h6⟩ : ∃ S6, S6 = eat KA ((L.flatten ++ TL).length / 128) st (L.flatten ++ TL) := ⟨_, rfl⟩
        rw [← h6] at HSO HS6
        have HS6L := Lib.hid (show (cs64 S6).length = 8 by rw [cs64_length, HS6.out])
        have HSG := Lib.hid (signs_any S6 HS6.out)
        have HRU : Hid (Bk w6 G (rn gk S6 v')) := Lib.hid (by rw [h6]; exact HG6.out.run.bk)
        clear h6
        go_wp2_with (refine wpList_load_at rfl 87 _ rfl _ rfl (cs64 S6) _ (HRU.out.range (rn_words gk S6 v')) Tryd.underlying87 rfl (by rw [HS6L.out]; exact info38) ?_)
        refine (HSG.out _).mono ?_; rintro e w7 ⟨rfl, hb7⟩
        have HG7 := Lib.hid (HG6.out.keep hb7)
        have HLS := Lib.hid (show (cs8 (signsOf S6)).length = 64 by rw [cs8_length, signs_length, HS6.out])
        go_wp2_with (refine wpList_store_bk rfl 85 _ _ rfl (w.heap.size + 1) rfl (cs8 (signsOf S6)) z33 rfl HG7.out.res (by rw [HLS.out]; exact info33) (by rw [HLS.out]; exact len_z33) (cs8_all _) ?_)
        refine ret_bk rfl (w.heap.size + 1) _ _ rfl rfl (HG7.out.res.setRow _) Tryd.underlying85 rfl (by rw [HLS.out]; exact info33) ⟨?_, below_setRow HG7.out.old (by omega) _⟩
        rw [HSO.out]
end Go.Proofs.YtdfihpnmiiaflaaDoor
end
section
/- The words of the sums, as they stand in the program, and the sums of abc. -/
namespace Go.Proofs.YtdfihpnmiiaflaaDoor

def KK : List UInt64 := [
  4794697086780616226, 8158064640168781261, 13096744586834688815, 16840607885511220156, 4131703408338449720,
  6480981068601479193, 10538285296894168987, 12329834152419229976, 15566598209576043074, 1334009975649890238,
  2608012711638119052, 6128411473006802146, 8268148722764581231, 9286055187155687089, 11230858885718282805,
  13951009754708518548, 16472876342353939154, 17275323862435702243, 1135362057144423861, 2597628984639134821,
  3308224258029322869, 5365058923640841347, 6679025012923562964, 8573033837759648693, 10970295158949994411,
  12119686244451234320, 12683024718118986047, 13788192230050041572, 14330467153632333762, 15395433587784984357,
  489312712824947311, 1452737877330783856, 2861767655752347644, 3322285676063803686, 5560940570517711597,
  5996557281743188959, 7280758554555802590, 8532644243296465576, 9350256976987008742, 10552545826968843579,
  11727347734174303076, 12113106623233404929, 14000437183269869457, 14369950271660146224, 15101387698204529176,
  15463397548674623760, 17586052441742319658, 1182934255886127544, 1847814050463011016, 2177327727835720531,
  2830643537854262169, 3796741975233480872, 4115178125766777443, 5681478168544905931, 6601373596472566643,
  7507060721942968483, 8399075790359081724, 8693463985226723168, 9568029438360202098, 10144078919501101548,
  10430055236837252648, 11840083180663258601, 13761210420658862357, 14299343276471374635, 14566680578165727644,
  15097957966210449927, 16922976911328602910, 17689382322260857208, 500013540394364858, 748580250866718886,
  1242879168328830382, 1977374033974150939, 2944078676154940804, 3659926193048069267, 4368137639120453308,
  4836135668995329356, 5532061633213252278, 6448918945643986474, 6902733635092675308, 7801388544844847127
]
def startL : List UInt64 := [
  7640891576956012808, 13503953896175478587, 4354685564936845355, 11912009170470909681, 5840696475078001361,
  11170449401992604703, 2270897969802886507, 6620516959819538809
]
def startS : List UInt64 := [
  2463787394917988140, 11481187982095705282, 2563595384472711505, 10824532655140301501, 10819967247969091555,
  13717434660681038226, 3098927326965381290, 1060366662362279074
]
set_option maxRecDepth 100000 in
theorem abc_long : (sumOf KK startL [97, 98, 99]).take 8 = [221, 175, 53, 161, 147, 97, 122, 186] := by decide +kernel
end Go.Proofs.YtdfihpnmiiaflaaDoor
end
section
/- The words, and the calls over them: Sum512, Sum, Piece, Start, StartShort. -/
namespace Go.Proofs.YtdfihpnmiiaflaaDoor
set_option maxRecDepth 8192
open Go.RowKit

def ALL : List UInt64 := KK ++ (startL ++ startS)
theorem ALL_length : (cs64 ALL).length = 96 := by decide +kernel

theorem wpList_buildTo {ops : Array Oper} {rest : List Oper} {o : Oper} {a : Act} {w : World} {Q : Exit → Act → World → Prop} (hg : o.guard = none) (k : Nat) (_ : o.dst = some k) (t : TypeId) (parts : Array (Nat × Operand)) (ho : o.op = .build t parts) (cells : Array Value)
    (hf : Tryd.prog.built t (parts.map fun (i, x) => (i, a.eval x)).toList = some cells)
    (h : wpList Tryd.prog ops Q rest (a.put o.dst (.agg cells)) w) : wpList Tryd.prog ops Q (o :: rest) a w :=
  wpList_build hg t parts ho (by rw [hf]; rfl) (by rw [hf]; exact h)

set_option maxHeartbeats 1600000 in
theorem words_any (w : World) : Calls Tryd.prog 57 #[] w fun e w' => e = .returned (.agg (cs64 ALL).toArray) ∧ Below w.heap.size w w' := by
  have HL := Lib.hid ALL_length
  have hb : Below w.heap.size w (w.alloc (.cells z49.toArray 99)) := bl_alloc (bl0 w) _
  have HB := Lib.hid (Bk.new w z49 99)
  go_enter Tryd.func57, Tryd.ntmps57
  go_wp2_with (first | (refine wpList_alloc_z rfl 99 rfl z49 zero49 ?_) | (refine wpList_buildTo rfl 1 rfl 97 _ rfl (cs64 KK).toArray (by kernel_rfl) ?_) | (refine wpList_buildTo rfl 2 rfl 87 _ rfl (cs64 startL).toArray (by kernel_rfl) ?_) | (refine wpList_buildTo rfl 3 rfl 87 _ rfl (cs64 startS).toArray (by kernel_rfl) ?_) | (refine wpList_buildTo rfl 4 rfl 99 _ rfl (cs64 ALL).toArray (by kernel_rfl) ?_) | (refine wpList_store_bk rfl 99 _ _ rfl w.heap.size rfl (cs64 ALL) z49 rfl HB.out (by rw [HL.out]; exact info49) (by rw [HL.out]; exact len_z49) (cs64_one _) ?_))
  exact ret_bk rfl w.heap.size _ _ rfl rfl (HB.out.setRow _) Tryd.underlying99 rfl (by rw [HL.out]; exact info49) ⟨rfl, bl_setRow hb (Nat.le_refl _) _⟩

/-- Words at a place of all words. -/
theorem ALL_at (o n : Nat) (l : List UInt64) (hl : ALL.drop o = l ++ ALL.drop (o + n)) : ∀ (j : Nat) (u : Value), (cs64 l)[j]? = some u → (cs64 ALL)[o + j]? = some u := by
  intro j u hj
  have hlt : j < l.length := by have := (List.getElem?_eq_some_iff.1 hj).1; rwa [cs64_length] at this
  rw [cs64, List.getElem?_map] at hj ⊢
  rw [← List.getElem?_drop, hl, List.getElem?_append_left hlt]
  exact hj
theorem long_at : ∀ (j : Nat) (u : Value), (cs64 startL)[j]? = some u → (cs64 ALL)[80 + j]? = some u := ALL_at 80 8 startL (by decide +kernel)
theorem short_at : ∀ (j : Nat) (u : Value), (cs64 startS)[j]? = some u → (cs64 ALL)[88 + j]? = some u := ALL_at 88 8 startS (by decide +kernel)
theorem KK_len : 80 ≤ ALL.length := by decide +kernel
theorem startL_length : startL.length = 8 := by decide +kernel
theorem startS_length : startS.length = 8 := by decide +kernel

theorem eat_length (KA : List UInt64) : ∀ (n : Nat) (st : List UInt64) (l : List UInt8), st.length = 8 → (eat KA n st l).length = 8
  | 0, _, _, h => h
  | n + 1, st, _, h => eat_length KA n _ _ (mix_length KA st _ h)
/-- SHA-512 of all bytes l, and SHA-512/256. -/
def sumL (l : List UInt8) : List UInt8 := sumOf ALL startL l
def sumS (l : List UInt8) : List UInt8 := (sumOf ALL startS l).take 32

theorem Rl.more {w : World} {top top' m : Nat} {B : Option Addr} {L : List (List UInt8)} (h : Rl w top B m L) (ht : top ≤ top') : Rl w top' B m L :=
  ⟨h.1, fun j x hx => by
    obtain ⟨ad, A, n, c, e, hl, hc, hr, hA⟩ := h.2 j x hx
    exact ⟨ad, A, n, c, e, by omega, hc, hr.more ht, fun a ha => Nat.lt_of_lt_of_le (hA a ha) ht⟩⟩

set_option maxHeartbeats 1600000 in
theorem Sum_any {B : Option Addr} {m c : Nat} {L : List (List UInt8)} (w : World) (hL : Rl w w.heap.size B m L) (hm : m ≤ 1073741824) (hT : L.flatten.length ≤ 1073741824) :
    Calls Tryd.prog 47 #[.slice B m c] w fun e w' => e = .returned (.agg (cs8 (sumS L.flatten)).toArray) ∧ Below w.heap.size w w' := by
  have HL := Lib.hid hL
  have HT := Lib.hid hT
  have hsl : (sumOf ALL startS L.flatten).length = 64 := by rw [sumOf, signs_length, eat_length _ _ _ _ startS_length]
  have HSL := Lib.hid (show (cs8 (sumOf ALL startS L.flatten)).length = 64 by rw [cs8_length, hsl])
  have HSU := Lib.hid (show sumS L.flatten = (sumOf ALL startS L.flatten).take 32 from rfl)
  have HAL := Lib.hid ALL_length
  have HTL := Lib.hid (show (cs8 (sumS L.flatten)).length = 32 by rw [cs8_length, sumS, List.length_take, hsl]; rfl)
  have HSUM := Lib.hid (show ∀ (w3 : World) (gk : Nat), Rl w3 w3.heap.size B m L → Bk w3 gk (cs64 ALL) → Calls Tryd.prog 58 #[.pointer (some ⟨gk, 0, none⟩), .agg (cs64 startS).toArray, .slice B m c] w3 fun e w' => e = .returned (.agg (cs8 (sumOf ALL startS L.flatten)).toArray) ∧ Below w3.heap.size w3 w' from fun w3 gk h k => sum_any w3 h hm HT.out startS_length KK_len k)
  clear hL hT hsl
  generalize sumS L.flatten = S at HSU HTL ⊢
  generalize sumOf ALL startS L.flatten = S64 at HSL HSU HSUM
  go_enter Tryd.func47, Tryd.ntmps47
  go_wp2_with (refine wpList_alloc_z rfl 75 rfl z36 zero36 ?_)
  have HR0 := Lib.hid (Bk.new w z36 75)
  have HB0 := Lib.hid (bl_alloc (bl0 w) (.cells z36.toArray 75))
  have hs0 : (w.alloc (.cells z36.toArray 75)).heap.size = w.heap.size + 1 := by simp
  generalize w.alloc (.cells z36.toArray 75) = w1 at HR0 HB0 hs0 ⊢
  refine (words_any w1).mono ?_; rintro e w2 ⟨rfl, hb2⟩
  have HB2 := Lib.hid (bl_call HB0.out hb2)
  have HR2 := Lib.hid (HR0.out.keep hb2)
  have hs2 := hb2.size
  clear hb2 HB0 HR0
  have HZ := Lib.hid (Bk.new w2 z49 99)
  have HG := Lib.hid (HZ.out.setRow (cs64 ALL))
  have HB3 := Lib.hid (bl_setRow (bl_alloc HB2.out (.cells z49.toArray 99)) (show w.heap.size ≤ w2.heap.size by omega) (cs64 ALL).toArray)
  have HR3 := Lib.hid ((HR2.out.old (.cells z49.toArray 99)).other (show w.heap.size ≠ w2.heap.size by omega) (cs64 ALL).toArray)
  have hst := Lib.hid (show (cs64 startS).length = 8 by rw [cs64_length, startS_length])
  have hlo := Lib.hid ((HG.out).range short_at)
  go_wp2_with (first | (refine wpList_alloc_z rfl 99 rfl z49 zero49 ?_) | (refine wpList_store_bk rfl 99 _ _ rfl w2.heap.size rfl (cs64 ALL) z49 rfl HZ.out (by rw [HAL.out]; exact info49) (by rw [HAL.out]; exact len_z49) (cs64_one _) ?_) | (refine wpList_load_at rfl 87 _ rfl ⟨w2.heap.size, 88, none⟩ rfl (cs64 startS) _ hlo.out Tryd.underlying87 rfl (by rw [hst.out]; exact info38) ?_))
  clear hlo
  generalize (w2.alloc (.cells z49.toArray 99)).setRow w2.heap.size (cs64 ALL).toArray = w3 at HG HB3 HR3 ⊢
  generalize w2.heap.size = gk at HG ⊢
  refine (HSUM.out w3 gk ((HL.out.below HB3.out).more HB3.out.size) HG.out).mono ?_; rintro e w4 ⟨rfl, hb4⟩
  have HR4 := Lib.hid (HR3.out.keep hb4)
  have HB4 := Lib.hid (bl_call HB3.out hb4)
  have hs4 := hb4.size
  have hs3 := HB3.out.size
  have HR5 := Lib.hid ((HR4.out.old (.cells z33.toArray 85)).other (show w.heap.size ≠ w4.heap.size by have := HR4.out.lt; omega) (cs8 S64).toArray)
  have HB5 := Lib.hid (bl_setRow (bl_alloc HB4.out (.cells z33.toArray 85)) (show w.heap.size ≤ w4.heap.size by omega) (cs8 S64).toArray)
  have HZ4 := Lib.hid (Bk.new w4 z33 85)
  have HW5 := Lib.hid (HZ4.out.setRow (cs8 S64))
  have hsl2 := run_slice_hi (g := w4.heap.size) Tryd.underlying85 (show 32 ≤ 64 by decide) (by decide)
  have hcut : Hid (∀ j u, (cs8 S)[j]? = some u → ((w4.alloc (.cells z33.toArray 85)).setRow w4.heap.size (cs8 S64).toArray).cell? ((⟨w4.heap.size, 0, none⟩ : Addr).add j) = some u) := Lib.hid (HW5.out.range (fun j u hj => by
    rw [HSU.out, cs8, List.map_take, List.getElem?_take] at hj
    split at hj
    · rw [Nat.zero_add]; exact hj
    · cases hj))
  clear hb4
  go_wp2_with (first | (refine wpList_alloc_z rfl 85 rfl z33 zero33 ?_) | (refine wpList_store_bk rfl 85 _ _ rfl w4.heap.size rfl (cs8 S64) z33 rfl HZ4.out (by rw [HSL.out]; exact info33) (by rw [HSL.out]; exact len_z33) (cs8_all _) ?_) | (refine wpList_arrayAt rfl 75 _ rfl rfl Tryd.underlying75 (by omega) ?_) | (refine wpList_load_at rfl 75 _ rfl _ rfl (cs8 S) _ hcut.out Tryd.underlying75 rfl (by rw [HTL.out]; exact info36) ?_) | (refine wpList_store_bk rfl 75 _ _ rfl w.heap.size rfl (cs8 S) z36 rfl HR5.out (by rw [HTL.out]; exact info36) (by rw [HTL.out]; exact len_z36) (cs8_all _) ?_))
  exact ret_bk rfl w.heap.size _ _ rfl rfl (HR5.out.setRow _) Tryd.underlying75 rfl (by rw [HTL.out]; exact info36) ⟨rfl, bl_setRow HB5.out (Nat.le_refl _) _⟩
end Go.Proofs.YtdfihpnmiiaflaaDoor
end
