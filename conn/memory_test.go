package conn_test

import (
	"fmt"
	"runtime"
	"slices"
	"strings"
	"testing"
	"unsafe"

	"herald/api"
	"herald/conn"
	"herald/lists"
	"herald/pack"
)

var over = api.Field{Name: "over", Value: "written", Never: true}

// TestListsAreNotChanged: neither what is handed in nor the room behind it, whether
// the call is taken or refused.
func TestListsAreNotChanged(t *testing.T) {
	for _, p := range places() {
		for _, fields := range [][]api.Field{nil, request(), added(), listOf(20000), listOf(65537)} {
			b := at(t, p)
			for range 2 {
				given, unchanged := lists.Guarded(fields)
				b.open(given, false)
				b.head(p.id, given, false)
				b.promise(p.id, given)
				if !unchanged() {
					t.Errorf("P21.6: %s: a list that was handed in, or the room behind it, is another", b.history())
				}
			}
		}
	}
}

// TestListsAreNotKept: what becomes of a list later is nothing to the conn.
func TestListsAreNotKept(t *testing.T) {
	b := standing(t, true)
	fields := added()
	_, first, _ := b.open(fields, true)
	lists.Scribble(fields, over)
	_, second, _ := b.open(added(), true)
	if first != bytes(headersFrame(1, adds, true)) || second != bytes(headersFrame(3, names, true)) {
		t.Errorf("P21.6: %s: %s, then %s", b.history(), shownBytes(first), shownBytes(second))
	}
	b.whole()
}

// borrower lends texts in memory that can be written over.
type borrower struct{ all [][]byte }

func (x *borrower) text(s string) string {
	if s == "" {
		return ""
	}
	b := []byte(s)
	x.all = append(x.all, b)
	return unsafe.String(&b[0], len(b))
}

func (x *borrower) fields(l []api.Field) []api.Field {
	var lent []api.Field
	for _, f := range l {
		lent = append(lent, api.Field{Name: x.text(f.Name), Value: x.text(f.Value), Never: f.Never})
	}
	return lent
}

func (x *borrower) writeOver() {
	for _, b := range x.all {
		lists.Scribble(b, '#')
	}
}

// TestTextsAreNotKept: neither bytes that came, nor what was sent, nor the texts of
// fields.
func TestTextsAreNotKept(t *testing.T) {
	set := standard()
	for range 3 {
		var lent borrower
		c, _ := conn.New(true, set)
		m, _ := newModel(true, set)
		b := &both{t: t, c: c, m: m}
		b.control()
		came := bytes(settingsFrame(param(4, 50)), ackFrame())
		for at := range len(came) {
			c.Push(lent.text(came[at : at+1]))
			lent.writeOver()
		}
		for range 2 {
			c.Next()
		}
		m.push(came)
		m.next()
		m.next()
		b.look()
		for i := range 4 {
			fields := lists.Of("a", "b", "c", fmt.Sprint(i/2))
			id, text, _ := c.Open(lent.fields(fields), false)
			copied := strings.Clone(text)
			lent.writeOver()
			wantID, want, _ := m.open(fields, false)
			if id != wantID || text != want || text != copied {
				t.Fatalf("P21.6: a field's text is kept: %s, want %s", shownBytes(text), shownBytes(want))
			}
			_, text, _ = c.Data(id, lent.text("body"), i%2 == 0)
			copied = strings.Clone(text)
			lent.writeOver()
			if _, want, _ = m.data(id, "body", i%2 == 0); text != want || text != copied {
				t.Fatalf("P21.6: what was sent is kept: %s, want %s", shownBytes(text), shownBytes(want))
			}
			came := bytes(headersFrame(id, answerBlock+adds, false), dataFrame(id, "text", true))
			events := c.Recv(lent.text(came))
			shown := shownEvents(events)
			lent.writeOver()
			m.push(came)
			one, _ := m.next()
			two, _ := m.next()
			if want := shownEvents(append(one, two...)); shown != want || shownEvents(events) != want {
				t.Fatalf("P21.6: events are %s, want %s", shownEvents(events), want)
			}
			b.whole()
		}
	}
}

// TestEventsAreNewMemory: they can be written over without harm to others, or to the
// conn.
func TestEventsAreNewMemory(t *testing.T) {
	b := standing(t, true)
	b.mustOpen(true)
	b.mustOpen(true)
	came := bytes(promiseFrame(1, 2, requestBlock+adds), headersFrame(1, answerBlock+names, false), headersFrame(3, answerBlock+names, false), dataFrame(1, "one", false), headersFrame(2, names, true))
	events := b.recv(came)
	shown := make([]string, len(events))
	for i, e := range events {
		shown[i] = shownEvents([]api.Event{e})
	}
	for i := range events {
		lists.Scribble(events[i].Fields, over)
		_ = append(events[i].Fields, over, over)
		for j := i + 1; j < len(events); j++ {
			if got := shownEvents([]api.Event{events[j]}); got != shown[j] {
				t.Fatalf("P21.6: with another written over an event is %s, was %s", got, shown[j])
			}
		}
	}
	lists.Scribble(events, api.Event{Kind: 99})
	b.wantRecv(bytes(headersFrame(1, names, true)), headEvent(1, added(), true))
	b.whole()
	b.push(bytes(dataFrame(3, "x", false), dataFrame(3, "y", false)))
	first, _ := b.next()
	second, _ := b.next()
	lists.Scribble(first, api.Event{Kind: 99})
	if !sameEvents(second, []api.Event{dataEvent(3, "y", false)}) {
		t.Errorf("P21.6: with another answer written over it is %s", shownEvents(second))
	}
}

// TestLogIsNewMemory: it can be written over, and each list in it.
func TestLogIsNewMemory(t *testing.T) {
	set := standard()
	set.Streams, set.Window = 7, 9
	b := newBoth(t, true, set)
	b.control()
	b.recv(bytes(settingsFrame(param(4, 1), param(3, 2)), settingsFrame(param(1, 5)), ackFrame()))
	b.must(b.settings(standard()))
	b.mustOpen(false)
	first, second := b.c.Log(), b.c.Log()
	want := shownLog(second)
	for _, log := range [][]api.Entry{first, second} {
		for i := range log {
			if log[i].F.Params != nil {
				lists.Scribble(log[i].F.Params, param(77, 77))
				_ = append(log[i].F.Params, param(78, 78))
			}
			b.whole()
		}
		lists.Scribble(log, api.Entry{Sent: true, F: api.Frame{Type: 99}})
		b.whole()
	}
	if got := shownLog(b.c.Log()); got != want {
		t.Errorf("P21.6: with an answer written over the log is %s, was %s", got, want)
	}
	if ours := b.c.Ours(); ours != set {
		t.Errorf("P21.6: Ours() = %v, want %v", ours, set)
	}
	b.wantRecv(bytes(ackFrame()), acked())
	b.whole()
}

// TestListsOfALogAreApart: no two share memory.
func TestListsOfALogAreApart(t *testing.T) {
	b := standing(t, true)
	for range 4 {
		b.recv(bytes(settingsFrame(param(4, 1), param(3, 2), param(9, 9))))
	}
	log := b.c.Log()
	for i := range log {
		for j := range log {
			if i == j || len(log[i].F.Params) == 0 || len(log[j].F.Params) == 0 {
				continue
			}
			kept := slices.Clone(log[j].F.Params)
			lists.Scribble(log[i].F.Params, param(i, 1))
			if !slices.Equal(log[j].F.Params, kept) {
				t.Fatalf("P21.6: entries %d and %d share a list", i, j)
			}
		}
	}
}

// TestAnswersStay: bytes that were answered are not touched by what comes later.
func TestAnswersStay(t *testing.T) {
	b := sender(t, true)
	var told, copies []string
	for i := range 50 {
		b.recv(bytes(pingFrame(fmt.Sprintf("%08d", i))))
		_, text, _ := b.data(1, long(i), i == 49)
		told, copies = append(told, text), append(copies, strings.Clone(text))
		b.recv(bytes(pingFrame(fmt.Sprintf("%08d", i)), windowFrame(1, 9)))
		text = b.control()
		told, copies = append(told, text), append(copies, strings.Clone(text))
	}
	if !slices.Equal(told, copies) {
		t.Error("P21.6: what was answered has changed")
	}
}

// heap is how much memory is in use.
func heap() int64 {
	var m runtime.MemStats
	runtime.GC()
	runtime.ReadMemStats(&m)
	return int64(m.HeapAlloc)
}

// TestDeadKeepsNothing: of what comes to a dead conn, and of what it had not read.
func TestDeadKeepsNothing(t *testing.T) {
	const many, size = 60, 1 << 20
	text := strings.Repeat("x", size)
	before := heap()
	var all []*conn.Conn
	for range many {
		c, _ := conn.New(true, standard())
		c.Push(bytes(ackFrame()))
		c.Push(text)
		c.Next()
		c.Push(text)
		c.Recv(text)
		if _, dead := c.Dead(); !dead {
			t.Fatal("it lives")
		}
		all = append(all, c)
	}
	if more := heap() - before; more > many*size/4 {
		t.Errorf("P21.5: %d dead conns keep %d bytes", many, more)
	}
	runtime.KeepAlive(all)
}

// TestKeptIsBoundedByWhatCame: neither a block that tells far more than it is long nor
// a long frame that is only begun makes a conn keep more than came.
func TestKeptIsBoundedByWhatCame(t *testing.T) {
	const many = 10
	set := standard()
	set.List = 4000
	fields := lists.Of("a", strings.Repeat("~", 2000))
	first, _ := pack.NewEncoder().Encode(fields)
	before := heap()
	var all []*conn.Conn
	came := 0
	recv := func(c *conn.Conn, text string) []api.Event {
		came += len(text)
		return c.Recv(text)
	}
	for i := range many {
		c, _ := conn.New(false, set)
		c.Control()
		recv(c, api.Preface+bytes(settingsFrame(), ackFrame()))
		if events := recv(c, bytes(headersFrame(1, first, true))); !sameEvents(events, []api.Event{headEvent(1, fields, true)}) {
			t.Fatalf("P21.1: %s", shownEvents(events))
		}
		for id := int64(3); id < 11; id += 2 {
			if events := recv(c, bytes(headersFrame(id, strings.Repeat(names, 16384), true))); !sameEvents(events, []api.Event{resetEvent(id, calm)}) {
				t.Fatalf("P21.1: %s", shownEvents(events))
			}
		}
		c.Control()
		if i%2 == 0 {
			recv(c, "\x00\x40\x00\x00\x00\x00\x00\x00\x01"+long(9000))
		}
		all = append(all, c)
	}
	if more := heap() - before; more > int64(4*came) {
		t.Errorf("P21.5: of %d bytes %d are kept", came, more)
	}
	runtime.KeepAlive(all)
}

// TestMuchComes: a long life of one connection keeps no streams that are over and no
// bytes that were read; what it has to keep is its log.
func TestMuchComes(t *testing.T) {
	s, _ := conn.New(false, standard())
	s.Control()
	s.Recv(api.Preface + bytes(settingsFrame(), ackFrame()))
	s.Control()
	for i := range int64(3000) {
		id := 2*i + 1
		events := s.Recv(bytes(headersFrame(id, requestBlock, false), dataFrame(id, "ab", true)))
		if len(events) != 2 || !events[1].End {
			t.Fatalf("P21.1: request %d: %s", i, shownEvents(events))
		}
		if text, e := s.Head(id, answer(), true); e != api.OK || !strings.HasSuffix(text, bytes(headersFrame(id, answerBlock, true))) {
			t.Fatalf("P21.1: response %d: %d", i, e)
		}
	}
	if s.Opened(false) != 0 || s.Window(0) != 65535 || len(s.Log()) != 4+3000*4 {
		t.Errorf("P21.1: %d are open, %d entries", s.Opened(false), len(s.Log()))
	}
}
