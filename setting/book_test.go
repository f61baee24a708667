package setting_test

import (
	"fmt"
	"math/rand"
	"strings"
	"testing"

	"herald/api"
	"herald/lists"
	"herald/setting"
)

func wantSend(t *testing.T, b *setting.Book, l []api.Param, want api.Errno) {
	t.Helper()
	if e := b.Send(l); e != want {
		t.Errorf("P8.4: Send(%s) = %d, want %d", shown(l), e, want)
	}
}

// wantBook holds both looks.
func wantBook(t *testing.T, b *setting.Book, acked api.Set, waiting int) {
	t.Helper()
	if b.Acked() != acked || b.Waiting() != waiting {
		t.Errorf("P8.4: Acked %v and Waiting %d, want %v and %d", b.Acked(), b.Waiting(), acked, waiting)
	}
}

func wantAck(t *testing.T, b *setting.Book, want api.Set, waiting int) {
	t.Helper()
	if s, ok := b.Ack(); s != want || !ok {
		t.Errorf("P8.4: Ack() = %v, %v, want %v, true", s, ok, want)
	}
	wantBook(t, b, want, waiting)
}

// wantNoAck: none waits, and nothing changes.
func wantNoAck(t *testing.T, b *setting.Book, acked api.Set) {
	t.Helper()
	for range 3 {
		if s, ok := b.Ack(); s != (api.Set{}) || ok {
			t.Errorf("P8.4: Ack() = %v, %v, though none waits", s, ok)
		}
		wantBook(t, b, acked, 0)
	}
}

func TestExampleFive(t *testing.T) {
	b := setting.NewBook(true)
	wantBook(t, b, start, 0)
	wantNoAck(t, b, start)
	wantSend(t, b, list(p(4, 10)), api.OK)
	wantSend(t, b, list(p(4, 100000), p(4, 20)), api.OK)
	wantBook(t, b, start, 2)
	wantAck(t, b, changed(start, 4, 10), 1)
	wantAck(t, b, changed(start, 4, 20), 0)
	wantSend(t, b, list(p(2, 2)), api.ErrArg)
	wantBook(t, b, changed(start, 4, 20), 0)
	wantNoAck(t, b, changed(start, 4, 20))
}

// TestEmptyListWaits: it is acknowledged as others are.
func TestEmptyListWaits(t *testing.T) {
	for _, client := range []bool{true, false} {
		b := setting.NewBook(client)
		wantSend(t, b, nil, api.OK)
		wantBook(t, b, start, 1)
		wantSend(t, b, list(p(3, 5)), api.OK)
		wantSend(t, b, list(), api.OK)
		wantBook(t, b, start, 3)
		wantAck(t, b, start, 2)
		wantAck(t, b, changed(start, 3, 5), 1)
		wantAck(t, b, changed(start, 3, 5), 0)
		wantNoAck(t, b, changed(start, 3, 5))
	}
}

// TestRefusedList: by its end's kind, and wherever the wrong param stands;
// nothing of it holds, and none waits more.
func TestRefusedList(t *testing.T) {
	for _, client := range []bool{true, false} {
		b := setting.NewBook(client)
		wantSend(t, b, list(p(6, 2000)), api.OK)
		for _, wrong := range []api.Param{p(2, 2), p(2, -1), p(4, 1<<31), p(5, 16383), p(5, 16777216), p(1, -1), p(3, 1<<32), p(-1, 0), p(65536, 0), p(9, 1<<32)} {
			wantSend(t, b, list(wrong), api.ErrArg)
			wantSend(t, b, list(p(4, 7), p(1, 7), wrong), api.ErrArg)
			wantSend(t, b, list(wrong, p(4, 7)), api.ErrArg)
			wantBook(t, b, start, 1)
		}
		wantSend(t, b, list(p(3, 3)), api.OK)
		wantAck(t, b, changed(start, 6, 2000), 1)
		wantAck(t, b, changed(changed(start, 6, 2000), 3, 3), 0)
		wantNoAck(t, b, changed(changed(start, 6, 2000), 3, 3))
	}
}

// TestBooksKind: a client's Push may be 1, a server's not.
func TestBooksKind(t *testing.T) {
	c, s := setting.NewBook(true), setting.NewBook(false)
	wantSend(t, c, list(p(2, 0)), api.OK)
	wantSend(t, c, list(p(2, 1)), api.OK)
	wantAck(t, c, changed(start, 2, 0), 1)
	wantAck(t, c, start, 0)
	wantSend(t, s, list(p(2, 1)), api.ErrArg)
	wantBook(t, s, start, 0)
	wantSend(t, s, list(p(2, 0)), api.OK)
	wantAck(t, s, changed(start, 2, 0), 0)
}

// TestBookTakesAsApply: what a book has acknowledged is cut to what is used, too.
func TestBookTakesAsApply(t *testing.T) {
	b := setting.NewBook(false)
	wantSend(t, b, list(p(1, 4294967295), p(3, 4294967295), p(5, 16777215), p(6, 0), p(77, 1)), api.OK)
	wantAck(t, b, api.Set{Table: 2147483647, Push: 1, Streams: 2147483647, Window: 65535, Frame: 65536, List: 0}, 0)
}

// TestFullBook: the 64th list waits, the 65th doesn't; behind an Ack there is room
// for one more.
func TestFullBook(t *testing.T) {
	for _, client := range []bool{true, false} {
		b := setting.NewBook(client)
		for i := range 64 {
			wantBook(t, b, start, i)
			wantSend(t, b, list(p(4, int64(1000+i))), api.OK)
		}
		for _, l := range [][]api.Param{nil, list(p(4, 5)), list(p(7, 7))} {
			wantSend(t, b, l, api.ErrFull)
			wantBook(t, b, start, 64)
		}
		// The wrong list is told ahead of the full book.
		wantSend(t, b, list(p(4, 1<<31)), api.ErrArg)
		wantSend(t, b, list(p(1, 0), p(2, 2)), api.ErrArg)
		wantBook(t, b, start, 64)
		for i := range 200 {
			wantAck(t, b, changed(start, 4, int64(1000+i)), 63)
			wantSend(t, b, list(p(4, int64(1064+i))), api.OK)
			wantSend(t, b, list(p(4, 1)), api.ErrFull)
			wantBook(t, b, changed(start, 4, int64(1000+i)), 64)
		}
		for i := range 64 {
			wantAck(t, b, changed(start, 4, int64(1200+i)), 63-i)
		}
		wantNoAck(t, b, changed(start, 4, 1263))
	}
}

// TestInTheOrderSent: each list has its own field or one that another has too.
func TestInTheOrderSent(t *testing.T) {
	b := setting.NewBook(true)
	wantSend(t, b, list(p(1, 1), p(4, 1)), api.OK)
	wantSend(t, b, list(p(4, 2)), api.OK)
	wantSend(t, b, list(p(1, 3), p(2, 0)), api.OK)
	s := changed(changed(start, 1, 1), 4, 1)
	wantAck(t, b, s, 2)
	wantSend(t, b, list(p(6, 4), p(1, 4)), api.OK)
	s = changed(s, 4, 2)
	wantAck(t, b, s, 2)
	s = changed(changed(s, 1, 3), 2, 0)
	wantAck(t, b, s, 1)
	s = changed(changed(s, 6, 4), 1, 4)
	wantAck(t, b, s, 0)
	wantNoAck(t, b, s)
	wantSend(t, b, list(p(4, 9)), api.OK)
	wantAck(t, b, changed(s, 4, 9), 0)
}

// TestBookKeepsNoList: what was sent can be written over while it waits.
func TestBookKeepsNoList(t *testing.T) {
	b := setting.NewBook(true)
	l := list(p(4, 10), p(3, 11), p(4, 12))
	wantSend(t, b, l, api.OK)
	lists.Scribble(l, p(1, 77))
	wantSend(t, b, l[:1], api.OK)
	lists.Scribble(l, p(-1, -1))
	s := changed(changed(start, 4, 12), 3, 11)
	wantAck(t, b, s, 1)
	wantAck(t, b, changed(s, 1, 77), 0)
	got := b.Acked()
	got.Window = 1
	wantBook(t, b, changed(s, 1, 77), 0)
	if d := setting.Default(); d != start {
		t.Errorf("P8.5: behind a book's Acks Default is %v", d)
	}
}

// TestBookTakesLittle: a list takes room by what it does, not by how long it is.
func TestBookTakesLittle(t *testing.T) {
	long := make([]api.Param, 100000)
	for i := range long {
		long[i] = p(1+i%7, 16384)
		if long[i].ID == 2 {
			long[i].Value = 1
		}
	}
	b := setting.NewBook(true)
	used := testing.AllocsPerRun(100, func() {
		b.Send(long)
		b.Ack()
	})
	if used > 1 {
		t.Errorf("P8.5: a long list takes memory %v times", used)
	}
}

// TestSideBySide: of two books the one is used, the other shows nothing of it.
func TestSideBySide(t *testing.T) {
	used, other, third := setting.NewBook(true), setting.NewBook(true), setting.NewBook(false)
	wantSend(t, third, list(p(3, 1)), api.OK)
	for i := range 64 {
		wantSend(t, used, list(p(1, int64(i)), p(4, int64(i))), api.OK)
		wantBook(t, other, start, 0)
		wantBook(t, third, start, 1)
	}
	for range 64 {
		used.Ack()
		wantBook(t, other, start, 0)
		wantBook(t, third, start, 1)
	}
	wantNoAck(t, other, start)
	wantSend(t, other, list(p(6, 3)), api.OK)
	wantBook(t, used, changed(changed(start, 1, 63), 4, 63), 0)
	wantAck(t, third, changed(start, 3, 1), 0)
	wantAck(t, other, changed(start, 6, 3), 0)
	wantBook(t, setting.NewBook(true), start, 0)
}

// step is a Send of the list, or an Ack.
type step struct {
	acks bool
	l    []api.Param
}

func wantSteps(t *testing.T, client bool, steps []step) {
	t.Helper()
	b, m := setting.NewBook(client), &modelBook{client: client}
	for i, x := range steps {
		if x.acks {
			s, ok := b.Ack()
			if want, right := m.ack(); s != want || ok != right {
				t.Fatalf("P8.4: client %v, %s: at %d Ack() = %v, %v, want %v, %v", client, shownSteps(steps[:i+1]), i, s, ok, want, right)
			}
		} else if e, want := b.Send(x.l), m.send(x.l); e != want {
			t.Fatalf("P8.4: client %v, %s: at %d Send = %d, want %d", client, shownSteps(steps[:i+1]), i, e, want)
		}
		if b.Acked() != m.acked() || b.Waiting() != m.waiting() {
			t.Fatalf("P8.4: client %v, %s: at %d Acked %v, Waiting %d, want %v, %d", client, shownSteps(steps[:i+1]), i, b.Acked(), b.Waiting(), m.acked(), m.waiting())
		}
	}
	drain(t, b, m)
}

// drain: Ack is asked till it says false; then it has said true once for each
// Send with OK.
func drain(t *testing.T, b *setting.Book, m *modelBook) {
	t.Helper()
	for m.waiting() > 0 {
		want, _ := m.ack()
		wantAck(t, b, want, m.waiting())
	}
	wantNoAck(t, b, m.acked())
}

func shownSteps(steps []step) string {
	var all []string
	for _, x := range steps[max(0, len(steps)-20):] {
		if x.acks {
			all = append(all, "Ack")
		} else {
			all = append(all, fmt.Sprintf("Send(%s)", shown(x.l)))
		}
	}
	return strings.Join(all, " ")
}

// TestEveryOrder: all lists of six calls out of a few.
func TestEveryOrder(t *testing.T) {
	some := []step{{acks: true}, {}, {l: list(p(4, 1), p(1, 1))}, {l: list(p(4, 2))}, {l: list(p(2, 1), p(3, 3))}, {l: list(p(1, 5), p(5, 0))}}
	steps := make([]step, 0, 6)
	var all func()
	all = func() {
		if len(steps) == cap(steps) {
			wantSteps(t, true, steps)
			wantSteps(t, false, steps)
			return
		}
		for _, x := range some {
			steps = append(steps, x)
			all()
			steps = steps[:len(steps)-1]
		}
	}
	all()
}

// TestRandomBooks: some of them fill, as more is sent than acknowledged.
func TestRandomBooks(t *testing.T) {
	r, all := rand.New(rand.NewSource(87)), edges()
	for range 150 {
		client, often := r.Intn(2) == 0, 1+r.Intn(6)
		var steps []step
		for range 250 {
			switch {
			case r.Intn(often+1) == 0:
				steps = append(steps, step{acks: true})
			case r.Intn(8) == 0:
				steps = append(steps, step{l: append(rightList(r, all, client), randomParam(r, all))})
			default:
				steps = append(steps, step{l: rightList(r, all, client)})
			}
		}
		wantSteps(t, client, steps)
	}
}

// FuzzCalls reads steps out of bytes: 0xf0 and above acknowledge, all else is
// a param's ID and which of the edges its value is; 0xe0 to 0xef end a list.
func FuzzCalls(f *testing.F) {
	f.Add(true, []byte("\x04\x05\xe0\x04\x06\x04\x07\xe0\xf0\xf0\xf0"))
	f.Add(false, []byte("\x02\x04\xe0\xe0\xe0\xf0\x05\x1c\xe0\xf0"))
	f.Fuzz(func(t *testing.T, client bool, b []byte) {
		var steps []step
		var l []api.Param
		all := edges()
		for len(b) > 0 && len(steps) < 300 {
			switch {
			case b[0] >= 0xf0:
				steps = append(steps, step{acks: true})
			case b[0] >= 0xe0:
				steps, l = append(steps, step{l: l}), nil
			case len(b) > 1:
				l = append(l, p(someIDs[int(b[0])%len(someIDs)], all[int(b[1])%len(all)]))
				b = b[1:]
			}
			b = b[1:]
		}
		steps = append(steps, step{l: l})
		wantSteps(t, client, steps)
		for _, x := range steps {
			s, code := setting.Apply(start, x.l, client)
			if want, right := modelApply(start, x.l, client); s != want || code != right {
				t.Errorf("P8.1: Apply(%s, client %v) = %v, %d, want %v, %d", shown(x.l), client, s, code, want, right)
			}
			wantTables(t, x.l, modelTables(x.l)...)
		}
	})
}
