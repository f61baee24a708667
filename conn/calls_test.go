package conn_test

import (
	"fmt"
	"strings"
	"testing"

	"herald/api"
	"herald/lists"
)

// listOf is a list of a size, of one field that isn't packed into the table.
func listOf(size int) []api.Field {
	return []api.Field{{Name: "x", Value: long(size - 33), Never: true}}
}

// allowed tells at which places Head, Promise, Data and Reset are taken; at all
// others they are refused with ErrState.
func allowed() map[string]string {
	return map[string]string{
		"true ours, open": "Data Reset", "true ours, half closed (local)": "Reset", "true ours, half closed (remote)": "Data Reset",
		"true theirs, reserved": "Reset", "true theirs, half closed": "Reset",
		"false theirs, open": "Head Promise Data Reset", "false theirs, half closed (remote)": "Head Promise Data Reset", "false theirs, half closed (local)": "Reset",
		"false ours, reserved": "Head Reset", "false ours, half closed": "Head Data Reset",
	}
}

// TestCallsAtEveryState: which calls a stream's state lets us make.
func TestCallsAtEveryState(t *testing.T) {
	for _, p := range places() {
		may := allowed()[fmt.Sprint(p.client, " ", p.name)]
		for name, call := range map[string]func(b *both, id int64) api.Errno{
			"Head":    func(b *both, id int64) api.Errno { _, e := b.head(id, answer(), false); return e },
			"Promise": func(b *both, id int64) api.Errno { _, _, e := b.promise(id, request()); return e },
			"Data":    func(b *both, id int64) api.Errno { _, _, e := b.data(id, "ab", false); return e },
			"Reset":   func(b *both, id int64) api.Errno { return b.reset(id, 0) },
		} {
			b := at(t, p)
			b.note("%s", p.name)
			want := api.ErrState
			if strings.Contains(may, name) {
				want = api.OK
			}
			b.want(call(b, p.id), want)
			if want != api.OK {
				b.wantState(p.id, p.state)
				b.wantControl()
			}
			for _, id := range []int64{0, -1, -2, 1 << 32, 1<<32 + 1, 1<<31 + 1, least, greatest} {
				b.want(call(b, id), api.ErrState)
			}
		}
	}
}

// TestWhereSentFramesLead: the state behind each call.
func TestWhereSentFramesLead(t *testing.T) {
	c := standing(t, true)
	c.wantState(c.mustOpen(false), open)
	c.wantState(c.mustOpen(true), halfLocal)
	c.data(1, "x", true)
	c.wantState(1, halfLocal)
	s := standing(t, false)
	s.recv(bytes(headersFrame(1, requestBlock, false), headersFrame(3, requestBlock, true)))
	s.mustHead(1, false)
	s.wantState(1, open)
	s.mustHead(1, true)
	s.wantState(1, halfLocal)
	s.mustHead(3, false)
	s.wantState(3, halfRemote)
	for id := int64(2); id <= 6; id += 2 {
		if s.mustPromise(3) != id {
			t.Errorf("P21.1: %s: the promised one isn't %d", s.history(), id)
		}
		s.wantState(id, reservedLocal)
	}
	s.mustHead(2, true)
	s.wantState(2, closed)
	s.mustHead(4, false)
	s.wantState(4, halfRemote)
	s.data(4, "x", false)
	s.wantState(4, halfRemote)
	s.data(4, "x", true)
	s.wantState(4, closed)
	s.must(s.reset(6, 8))
	s.wantState(6, closed)
	s.mustHead(3, true)
	s.wantState(3, closed)
}

// TestOpenNumbers: odd ones that rise by two, whatever became of those ahead.
func TestOpenNumbers(t *testing.T) {
	c := standing(t, true)
	for want := int64(1); want < 40; want += 2 {
		if id := c.mustOpen(want%3 == 0); id != want {
			t.Errorf("P21.1: %s: %d, want %d", c.history(), id, want)
		}
		switch want % 4 {
		case 1:
			c.must(c.reset(want, 0))
		case 3:
			c.recv(bytes(resetFrame(want, 0)))
		}
	}
}

// TestOpenErrors: each, and the first of several.
func TestOpenErrors(t *testing.T) {
	tooLong := listOf(65537)
	s := standing(t, false, param(3, 0))
	_, _, e := s.open(tooLong, false)
	s.want(e, api.ErrState)
	c := newBoth(t, true, standard())
	_, _, e = c.open(tooLong, false)
	c.want(e, api.ErrState)
	c.control()
	_, _, e = c.open(request(), false)
	c.want(e, api.ErrState)
	c.recv(bytes(settingsFrame(param(3, 2), param(6, 200))))
	c.mustOpen(false)
	_, _, e = c.open(listOf(201), false)
	c.want(e, api.ErrList)
	c.mustOpen(true)
	_, _, e = c.open(tooLong, false)
	c.want(e, api.ErrFull)
	c.recv(bytes(headersFrame(1, answerBlock, true)))
	_, _, e = c.open(request(), false)
	c.want(e, api.ErrFull)
	c.data(1, "", true)
	_, _, e = c.open(tooLong, false)
	c.want(e, api.ErrList)
	if id := c.mustOpen(false); id != 5 {
		t.Errorf("P21.1: %s: %d, want 5", c.history(), id)
	}
	c.recv(bytes(settingsFrame(param(3, 1))))
	c.must(c.reset(5, 0))
	_, _, e = c.open(request(), false)
	c.want(e, api.ErrFull)
	c.must(c.reset(3, 0))
	c.mustOpen(false)
	c = standing(t, true, param(3, 0))
	_, _, e = c.open(nil, false)
	c.want(e, api.ErrFull)
}

// TestOpenCountsOursAlone: pushed streams are no matter.
func TestOpenCountsOursAlone(t *testing.T) {
	c := standing(t, true, param(3, 2))
	c.mustOpen(false)
	c.recv(bytes(promiseFrame(1, 2, requestBlock), headersFrame(2, answerBlock, false), promiseFrame(1, 4, requestBlock), headersFrame(4, answerBlock, false)))
	c.mustOpen(false)
	if c.c.Opened(true) != 2 || c.c.Opened(false) != 2 {
		t.Errorf("P21.1: %s: %d and %d are open", c.history(), c.c.Opened(true), c.c.Opened(false))
	}
}

// TestHeadErrors: each, and the first of several.
func TestHeadErrors(t *testing.T) {
	tooLong := listOf(65537)
	c := sender(t, true, param(3, 1))
	_, e := c.head(1, tooLong, true)
	c.want(e, api.ErrState)
	s := standing(t, false, param(3, 1), param(6, 200))
	s.recv(bytes(headersFrame(1, requestBlock, false), headersFrame(3, requestBlock, true)))
	s.mustPromise(1)
	s.mustPromise(1)
	s.mustPromise(1)
	_, e = s.head(8, tooLong, true)
	s.want(e, api.ErrState)
	_, e = s.head(2, tooLong, true)
	s.want(e, api.ErrList)
	s.mustHead(2, false)
	for _, end := range []bool{false, true} {
		_, e = s.head(4, tooLong, end)
		s.want(e, api.ErrFull)
		_, e = s.head(4, answer(), end)
		s.want(e, api.ErrFull)
	}
	s.mustHead(2, false) // it has had its place already
	s.mustHead(1, false) // theirs, not ours
	_, e = s.head(1, listOf(201), true)
	s.want(e, api.ErrList)
	if _, e = s.head(1, listOf(200), true); e != api.OK {
		t.Errorf("P21.1: %s: %d", s.history(), e)
	}
	s.data(2, "", true)
	s.mustHead(4, true)
	s.mustHead(6, false)
	s = standing(t, false, param(3, 0))
	s.recv(bytes(headersFrame(1, requestBlock, false)))
	s.mustPromise(1)
	_, e = s.head(2, answer(), true)
	s.want(e, api.ErrFull)
	s.mustHead(1, true)
	s.recv(bytes(settingsFrame(param(3, 1))))
	s.mustHead(2, true)
}

// TestPromiseErrors: each, and the first of several.
func TestPromiseErrors(t *testing.T) {
	tooLong := listOf(65537)
	c := sender(t, true)
	_, _, e := c.promise(1, tooLong)
	c.want(e, api.ErrState)
	s := standing(t, false, param(2, 0))
	s.recv(bytes(headersFrame(1, requestBlock, true)))
	_, _, e = s.promise(1, tooLong)
	s.want(e, api.ErrState)
	s.recv(bytes(settingsFrame(param(2, 1), param(6, 500))))
	_, _, e = s.promise(1, listOf(501))
	s.want(e, api.ErrList)
	_, _, e = s.promise(3, tooLong)
	s.want(e, api.ErrState)
	if id := s.mustPromise(1); id != 2 {
		t.Errorf("P21.1: %s: %d, want 2", s.history(), id)
	}
	s.recv(bytes(settingsFrame(param(2, 0))))
	_, _, e = s.promise(1, request())
	s.want(e, api.ErrState)
	s.mustHead(2, false) // what was promised may come
	s = standing(t, false, param(3, 0))
	s.recv(bytes(headersFrame(1, requestBlock, true)))
	for range 3 {
		s.mustPromise(1) // theirs Streams doesn't count promises
	}
}

// TestListEdges: the peer's List and the greatest of all, for the three calls that
// take lists.
func TestListEdges(t *testing.T) {
	for _, list := range []int64{0, 33, 100, 16384, 65535, 65536, 65537, top} {
		most := min(list, 65536)
		for size := most - 1; size <= most+1; size++ {
			fields := listOf(int(max(33, size)))
			want := api.OK
			if max(33, size) > most {
				want = api.ErrList
			}
			c := standing(t, true, param(6, list))
			_, _, e := c.open(fields, true)
			c.want(e, want)
			s := standing(t, false, param(6, list))
			s.recv(bytes(headersFrame(1, requestBlock, true)))
			_, _, e = s.promise(1, fields)
			s.want(e, want)
			_, e = s.head(1, fields, true)
			s.want(e, want)
		}
		c := standing(t, true, param(6, list))
		if _, _, e := c.open(nil, true); e != api.OK {
			t.Errorf("P21.1: a list of nothing: %d", e)
		}
	}
	c := standing(t, true)
	for _, f := range []api.Field{{Name: long(65537)}, {Value: long(70000)}, {Name: long(40000), Value: long(40000)}} {
		_, _, e := c.open([]api.Field{f}, true)
		c.want(e, api.ErrList)
	}
	_, _, e := c.open([]api.Field{{Value: long(65504)}}, true)
	c.want(e, api.OK)
}

// TestAnyFields: what a list says is no matter to a conn.
func TestAnyFields(t *testing.T) {
	c, s := standing(t, true), standing(t, false)
	for _, fields := range [][]api.Field{nil, {{}}, lists.Of("A", " \x00\n", "A", "\xff", "connection", "x"), {{Name: "n", Value: "v", Never: true}, {Name: "n", Value: "v"}}} {
		id, text, e := c.open(fields, true)
		c.must(e)
		s.wantRecv(text, headEvent(id, fields, true))
	}
}

// TestDataErrors: each, and the first of several.
func TestDataErrors(t *testing.T) {
	for _, client := range []bool{true, false} {
		b := sender(t, client, param(4, 0))
		for _, id := range []int64{1, 99, 0, -1} {
			_, _, e := b.data(id, "", false)
			b.want(e, api.ErrArg)
		}
		for _, id := range []int64{99, 100, 0, -1, greatest} {
			_, _, e := b.data(id, "x", true)
			b.want(e, api.ErrState)
			_, _, e = b.data(id, "", true)
			b.want(e, api.ErrState)
		}
		_, _, e := b.data(1, "x", true)
		b.want(e, api.ErrFull)
	}
}

// TestResetErrors: each, and the first of several; the codes at their edges.
func TestResetErrors(t *testing.T) {
	for _, client := range []bool{true, false} {
		for _, code := range []int64{-1, least, 1 << 32, greatest} {
			b := sender(t, client)
			b.want(b.reset(1, code), api.ErrArg)
			b.want(b.reset(99, code), api.ErrArg)
			b.wantControl()
		}
		for _, code := range []int64{0, 1, 8, 255, 1<<32 - 1} {
			b := sender(t, client)
			b.must(b.reset(1, code))
			b.want(b.reset(1, code), api.ErrState)
			b.wantControl(resetFrame(1, code))
			b.wantState(1, closed)
			b.wantWindow(1, 0)
		}
	}
}

// TestResetWaitsBehind: in the order in which all arose.
func TestResetWaitsBehind(t *testing.T) {
	b := sender(t, true)
	b.recv(bytes(dataFrame(1, "abc", false), pingFrame("12345678"), settingsFrame()))
	b.must(b.settings(standard()))
	b.must(b.reset(1, 8))
	b.recv(bytes(dataFrame(1, "late", true), pingFrame("abcdefgh")))
	b.wantControl(windowFrame(0, 3), windowFrame(1, 3), api.Frame{Type: 6, Flags: 1, Data: "12345678"}, ackFrame(), settingsFrame(), resetFrame(1, 8),
		windowFrame(0, 4), api.Frame{Type: 6, Flags: 1, Data: "abcdefgh"})
	b.wantControl()
}

// TestControlComesFirst: each call that sends answers first what waits.
func TestControlComesFirst(t *testing.T) {
	ping := api.Frame{Type: 6, Flags: 1, Data: "12345678"}
	c := newBoth(t, true, standard())
	c.recv(bytes(settingsFrame()))
	if _, text, _ := c.open(request(), true); text != api.Preface+bytes(settingsFrame(), ackFrame(), headersFrame(1, requestBlock, true)) {
		t.Errorf("P21.1: %s: %s", c.history(), shownBytes(text))
	}
	s := standing(t, false)
	s.recv(bytes(headersFrame(1, requestBlock, true), pingFrame("12345678")))
	if _, text, _ := s.promise(1, request()); text != bytes(ping, promiseFrame(1, 2, requestBlock)) {
		t.Errorf("P21.1: %s: %s", s.history(), shownBytes(text))
	}
	s.recv(bytes(pingFrame("12345678")))
	s.must(s.reset(2, 8))
	if text, _ := s.head(1, answer(), false); text != bytes(ping, resetFrame(2, 8), headersFrame(1, answerBlock, false)) {
		t.Errorf("P21.1: %s: %s", s.history(), shownBytes(text))
	}
	s.recv(bytes(pingFrame("12345678")))
	if _, text, _ := s.data(1, "x", true); text != bytes(ping, dataFrame(1, "x", true)) {
		t.Errorf("P21.1: %s: %s", s.history(), shownBytes(text))
	}
}

// refusals are calls at the end's stream that are refused there, all of them.
func refusals(b *both, id int64) {
	b.t.Helper()
	_, wrong := edgeSets()
	tooLong := listOf(65537)
	for _, stream := range []int64{id, 0, -1, 97, 98, greatest} {
		b.head(stream, tooLong, true)
		b.promise(stream, tooLong)
		b.data(stream, "", false)
		b.reset(stream, -1)
	}
	b.open(tooLong, true)
	for _, set := range wrong[:3] {
		b.want(b.settings(set), api.ErrArg)
	}
}

// TestRefusedCallsChangeNothing: of two ends under the same calls the one that is
// asked for what it refuses, too, answers all else as the other does.
func TestRefusedCallsChangeNothing(t *testing.T) {
	for _, p := range places() {
		plain, asked := at(t, p), at(t, p)
		all := func(do func(b *both) string) {
			t.Helper()
			refusals(asked, p.id)
			want := do(plain)
			if got := do(asked); got != want {
				t.Fatalf("R2: %s: %s, want %s", asked.history(), shownBytes(got), shownBytes(want))
			}
		}
		all(func(b *both) string {
			return shownEvents(b.recv(bytes(pingFrame("12345678"), settingsFrame(param(1, 50)))))
		})
		all(func(b *both) string { _, text, _ := b.open(added(), false); return text })
		all(func(b *both) string { text, _ := b.head(p.id, added(), false); return text })
		all(func(b *both) string { _, text, _ := b.promise(p.id, added()); return text })
		all(func(b *both) string { _, text, _ := b.data(p.id, "abc", false); return text })
		all(func(b *both) string { return fmt.Sprint(b.reset(p.id, 5)) })
		all(func(b *both) string { return fmt.Sprint(b.settings(standard())) })
		all(func(b *both) string { return b.control() })
		all(func(b *both) string { return shownLog(b.c.Log()) })
	}
}

// TestLog: what was sent, when its bytes were answered; what was got, when it was
// read; also what brings a fault, but not what is no frame.
func TestLog(t *testing.T) {
	c := newBoth(t, true, standard())
	wantLog := func(want ...api.Entry) {
		t.Helper()
		log := c.c.Log()
		for i := range max(len(log), len(want)) {
			if i >= len(log) || i >= len(want) || !sameEntry(log[i], want[i]) {
				t.Fatalf("P21.1: %s: the log has %d entries, want %d, or entry %d is another: %s", c.history(), len(log), len(want), i, shownLog(log))
			}
		}
	}
	sent := func(f api.Frame) api.Entry { return api.Entry{Sent: true, F: f} }
	got := func(f api.Frame) api.Entry { return api.Entry{F: f} }
	wantLog()
	c.push(bytes(settingsFrame(param(4, 9)), pingFrame("12345678")))
	wantLog()
	c.next()
	entries := []api.Entry{got(settingsFrame(param(4, 9)))}
	wantLog(entries...)
	c.control()
	entries = append(entries, sent(settingsFrame()), sent(ackFrame()))
	wantLog(entries...)
	c.next()
	entries = append(entries, got(pingFrame("12345678")))
	wantLog(entries...)
	c.open(request(), false)
	entries = append(entries, sent(api.Frame{Type: 6, Flags: 1, Data: "12345678"}), sent(headersFrame(1, requestBlock, false)))
	c.recv(raw(2, 0, 9, "12345") + raw(10, 3, 4, "x") + raw(1, 0, 1, "\x88"))
	entries = append(entries, got(api.Frame{Type: 2, Stream: 9, Dep: 0x31323334, Weight: 0x35 + 1}), got(api.Frame{Type: 10, Flags: 3, Stream: 4, Data: "x"}), got(api.Frame{Type: 1, Stream: 1, Data: "\x88"}))
	wantLog(entries...)
	c.recv(raw(9, 4, 1, ""))
	entries = append(entries, got(api.Frame{Type: 9, Flags: 4, Stream: 1}))
	c.recv(raw(2, 0, 1, "1234")) // a fault of the stream, and no frame
	wantLog(entries...)
	c.recv(bytes(dataFrame(2, "x", false), pingFrame("12345678")))
	entries = append(entries, got(dataFrame(2, "x", false)))
	wantLog(entries...)
	c.control()
	entries = append(entries, sent(resetFrame(1, frameSize)), sent(windowFrame(0, 1)), sent(goAwayFrame(0, protocol)))
	wantLog(entries...)
}
