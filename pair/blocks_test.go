package pair_test

import (
	"fmt"
	"strings"
	"testing"

	"herald/api"
	"herald/field"
	"herald/lists"
	"herald/pack"
)

// TestBlocks is T6: the blocks of both logs, both ways, by fresh tables, are the
// lists of what was asked, promised and answered; with tables of every size, and
// blocks of several frames.
func TestBlocks(t *testing.T) {
	for _, table := range []int64{0, 1, 40, 100, 4095, 4096, 4097, 65536} {
		for _, size := range []int{0, 300, 4000} {
			w := worldWith(func(w *api.World) { w.Client.Table, w.Server.Table = table, table })
			x := newWitness(t, w, map[string]int{})
			for i := range 6 {
				var fields []api.Field
				for k := range 10 {
					fields = append(fields, api.Field{Name: fmt.Sprint("x-", k%4), Value: strings.Repeat(string(rune('a'+i)), size), Never: k == 7})
				}
				x.do(ask(get("/a", fields...)))
				for _, m := range oneRound() {
					x.do(m) // the witness unpacks all that is new
				}
				if i == 2 {
					x.do(set(changed(func(s *api.Set) { s.Table = 65536 - table })))
				}
			}
			x.ends()
			wantBlocks(t, x, size)
		}
	}
}

// wantBlocks holds the client's log, once more from the beginning, against what was
// asked and answered.
func wantBlocks(t *testing.T, x *witness, size int) {
	t.Helper()
	all, wrong := newReader().next(x.p.Client().Trace())
	if wrong != "" {
		t.Fatal(wrong)
	}
	sent, got, promised := 0, 0, 0
	for _, h := range all {
		switch {
		case h.f.Type == promises:
			promised++
			if !lists.Same(h.fields, listOf(get("/b"))) {
				t.Fatalf("T6: promised is %s", lists.Shown(h.fields))
			}
		case h.f.Type == headers && h.sent:
			sent++
			if list, _ := field.WriteRequest(x.asked[sent-1]); !lists.Same(h.fields, list) {
				t.Fatalf("T6: sent is %s, want %s", lists.Shown(h.fields), lists.Shown(list))
			}
		case h.f.Type == headers:
			got++
			if !lists.Same(h.fields, lists.Of(":status", "200", "content-length", "1")) {
				t.Fatalf("T6: got is %s", lists.Shown(h.fields))
			}
		}
	}
	pieces := len(sentOf(x.p.Client().Trace(), further))
	if sent != 6 || promised != 6 || got < 7 || (pieces > 0) != (size == 4000) {
		t.Errorf("T6: %d, %d and %d blocks, %d CONTINUATIONs", sent, promised, got, pieces)
	}
}

// TestNoGreatTable is T6's remark: whatever the other end offers, no block tells a
// table above 4096.
func TestNoGreatTable(t *testing.T) {
	w := worldWith(func(w *api.World) { w.Client.Table, w.Server.Table = 65536, 65536 })
	b := newBoth(t, w)
	for i := range 8 {
		b.all(ask(get("/a", lists.Of("x-value", strings.Repeat(string(rune('a'+i)), 900))...)))
		b.rounds(9)
		if i == 3 {
			b.all(set(changed(func(s *api.Set) { s.Table = 0 })), set(changed(func(s *api.Set) { s.Table = 65535 })))
		}
	}
	n := 0
	for _, l := range [][]api.Entry{b.last.ServerTrace, b.last.UserTrace} {
		dec := pack.NewDecoder() // of at most 4096, till it is told otherwise
		for _, e := range l {
			if !e.Sent || e.F.Type != headers && e.F.Type != promises {
				continue
			}
			n++
			if _, wrong := dec.Decode(e.F.Data, top); wrong != 0 {
				t.Fatalf("T6: a block can't be unpacked by a table of 4096: %d", wrong)
			}
		}
	}
	if n < 20 {
		t.Errorf("%d blocks: too few to tell", n)
	}
}
