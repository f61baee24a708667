package conn_test

import (
	"slices"
	"strings"
	"testing"

	"herald/api"
)

// column is one frame of a type, on any stream.
type column struct {
	name  string
	text  func(id int64) string
	event func(id int64) api.Event // where the frame is right
}

// another is a stream that is promised on the stream in question.
const another = 10

// columns are all types of frames on a stream. (The Data of a DATA is two bytes,
// or none.)
func columns() []column {
	one := func(f func(id int64) api.Frame) func(int64) string {
		return func(id int64) string { return bytes(f(id)) }
	}
	none := func(int64) api.Event { return api.Event{} }
	return []column{
		{"DATA", one(func(id int64) api.Frame { return dataFrame(id, "ab", false) }), func(id int64) api.Event { return dataEvent(id, "ab", false) }},
		{"DATA, END", one(func(id int64) api.Frame { return dataFrame(id, "ab", true) }), func(id int64) api.Event { return dataEvent(id, "ab", true) }},
		{"empty DATA", one(func(id int64) api.Frame { return dataFrame(id, "", false) }), func(id int64) api.Event { return dataEvent(id, "", false) }},
		{"HEADERS", one(func(id int64) api.Frame { return headersFrame(id, answerBlock, false) }), func(id int64) api.Event { return headEvent(id, answer(), false) }},
		{"HEADERS, END", one(func(id int64) api.Frame { return headersFrame(id, answerBlock, true) }), func(id int64) api.Event { return headEvent(id, answer(), true) }},
		{"PRIORITY", one(func(id int64) api.Frame { return api.Frame{Type: 2, Stream: id, Dep: 1, Weight: 16} }), none},
		{"short PRIORITY", func(id int64) string { return raw(2, 0, uint32(id), "1234") }, none},
		{"RST_STREAM", one(func(id int64) api.Frame { return resetFrame(id, 4294967295) }), func(id int64) api.Event { return resetEvent(id, 4294967295) }},
		{"WINDOW_UPDATE 1", one(func(id int64) api.Frame { return windowFrame(id, 1) }), none},
		{"WINDOW_UPDATE 0", one(func(id int64) api.Frame { return windowFrame(id, 0) }), none},
		{"WINDOW_UPDATE most", one(func(id int64) api.Frame { return windowFrame(id, top) }), none},
		{"PUSH_PROMISE on it", one(func(id int64) api.Frame { return promiseFrame(id, another, requestBlock) }), func(id int64) api.Event { return promiseEvent(id, another, request()) }},
		{"PUSH_PROMISE of it", one(func(id int64) api.Frame { return promiseFrame(1, id, requestBlock) }), func(id int64) api.Event { return promiseEvent(1, id, request()) }},
		{"CONTINUATION", one(func(id int64) api.Frame { return api.Frame{Type: 9, Flags: 4, Stream: id} }), none},
		{"unknown", one(func(id int64) api.Frame { return api.Frame{Type: 10, Flags: 255, Stream: id, Data: "x"} }), none},
	}
}

// place is where a stream stands at one end, and what each column brings there: -
// nothing, e its event, sN a fault of the stream, cN of the connection, aN a fault
// of the other stream, which is promised by the frame.
type place struct {
	name   string
	client bool
	id     int64
	state  int
	lead   func(b *both)
	brings string
}

// What more than one place brings.
const (
	asClosed   = "c5 c5 c5 c5 c5 - - - - - - c1 c1 c1 -"
	asCut      = "- - - - - - - - - - - c1 c1 c1 -"
	asHalfOver = "s5 s5 s5 s5 s5 - s6 e - s1 s3 c1 c1 c1 -"
	asOpen     = "e e e e e - s6 e - s1 s3 c1 c1 c1 -"
	asIdle     = "c1 c1 c1 c1 c1 - c6 c1 c1 c1 c1 c1 c1 c1 -"
)

func clientPlaces() []place {
	over := bytes(headersFrame(1, answerBlock, true))
	promised := bytes(promiseFrame(1, 2, requestBlock))
	return []place{
		{"ours, idle", true, 3, idle, func(b *both) { b.mustOpen(false) }, asIdle},
		{"ours, open", true, 1, open, func(b *both) { b.mustOpen(false) }, "e e e e e - s6 e - s1 s3 e c1 c1 -"},
		{"ours, half closed (local)", true, 1, halfLocal, func(b *both) { b.mustOpen(true) }, "e e e e e - s6 e - s1 s3 e c1 c1 -"},
		{"ours, half closed (remote)", true, 1, halfRemote, func(b *both) { b.mustOpen(false); b.recv(over) }, asHalfOver},
		{"ours, ended by both", true, 1, closed, func(b *both) { b.mustOpen(true); b.recv(over) }, asClosed},
		{"ours, ended by us last", true, 1, closed, func(b *both) { b.mustOpen(false); b.recv(over); b.data(1, "", true) }, asClosed},
		{"ours, reset by them", true, 1, closed, func(b *both) { b.mustOpen(false); b.recv(bytes(resetFrame(1, 0))) }, asClosed},
		{"ours, reset by us", true, 1, closed, func(b *both) { b.mustOpen(false); b.reset(1, 0) }, "- - - - - - - - - - - a8 c1 c1 -"},
		{"theirs, idle", true, 2, idle, func(b *both) { b.mustOpen(false) }, "c1 c1 c1 c1 c1 - c6 c1 c1 c1 c1 c1 e c1 -"},
		{"theirs, reserved", true, 2, reservedRemote, func(b *both) { b.mustOpen(false); b.recv(promised) }, "c1 c1 c1 e e - s6 e c1 c1 c1 c1 c1 c1 -"},
		{"theirs, half closed", true, 2, halfLocal, func(b *both) { b.mustOpen(false); b.recv(promised + bytes(headersFrame(2, answerBlock, false))) }, asOpen},
		{"theirs, ended", true, 2, closed, func(b *both) { b.mustOpen(false); b.recv(promised + bytes(headersFrame(2, answerBlock, true))) }, asClosed},
		{"theirs, reset by them", true, 2, closed, func(b *both) { b.mustOpen(false); b.recv(promised + bytes(resetFrame(2, 7))) }, asClosed},
		{"theirs, reset by us", true, 2, closed, func(b *both) { b.mustOpen(false); b.recv(promised); b.reset(2, 8) }, asCut},
		{"theirs, skipped", true, 2, closed, func(b *both) { b.mustOpen(false); b.recv(bytes(promiseFrame(1, 4, requestBlock))) }, asClosed},
	}
}

func serverPlaces() []place {
	begun := bytes(headersFrame(1, requestBlock, false))
	whole := bytes(headersFrame(1, requestBlock, true))
	return []place{
		{"theirs, idle", false, 3, idle, func(b *both) { b.recv(begun) }, "c1 c1 c1 e e - c6 c1 c1 c1 c1 c1 c1 c1 -"},
		{"theirs, open", false, 1, open, func(b *both) { b.recv(begun) }, asOpen},
		{"theirs, half closed (remote)", false, 1, halfRemote, func(b *both) { b.recv(whole) }, asHalfOver},
		{"theirs, half closed (local)", false, 1, halfLocal, func(b *both) { b.recv(begun); b.mustHead(1, true) }, asOpen},
		{"theirs, ended by both", false, 1, closed, func(b *both) { b.recv(whole); b.mustHead(1, true) }, asClosed},
		{"theirs, ended by them last", false, 1, closed, func(b *both) { b.recv(begun); b.mustHead(1, true); b.recv(bytes(dataFrame(1, "", true))) }, asClosed},
		{"theirs, reset by them", false, 1, closed, func(b *both) { b.recv(begun + bytes(resetFrame(1, 8))) }, asClosed},
		{"theirs, reset by us", false, 1, closed, func(b *both) { b.recv(begun); b.reset(1, 11) }, asCut},
		{"theirs, skipped", false, 1, closed, func(b *both) { b.recv(bytes(headersFrame(3, requestBlock, false))) }, asClosed},
		{"ours, idle", false, 2, idle, func(b *both) { b.recv(begun) }, asIdle},
		{"ours, reserved", false, 2, reservedLocal, func(b *both) { b.recv(begun); b.mustPromise(1) }, "c1 c1 c1 c1 c1 - s6 e - s1 s3 c1 c1 c1 -"},
		{"ours, half closed", false, 2, halfRemote, func(b *both) { b.recv(begun); b.mustPromise(1); b.mustHead(2, false) }, asHalfOver},
		{"ours, ended", false, 2, closed, func(b *both) { b.recv(begun); b.mustPromise(1); b.mustHead(2, true) }, asClosed},
		{"ours, reset by them", false, 2, closed, func(b *both) { b.recv(begun); b.mustPromise(1); b.recv(bytes(resetFrame(2, 8))) }, asClosed},
		{"ours, reset by us", false, 2, closed, func(b *both) { b.recv(begun); b.mustPromise(1); b.reset(2, 8) }, asCut},
	}
}

func places() []place { return slices.Concat(clientPlaces(), serverPlaces()) }

// at is an end with a stream at the place, and nothing that waits.
func at(t *testing.T, p place) *both {
	t.Helper()
	b := standing(t, p.client)
	p.lead(b)
	b.control()
	b.wantState(p.id, p.state)
	return b
}

// TestEveryFrameAtEveryState: what each type brings at each state of its stream, as
// the chapter's words say it: the events, what waits, and where the stream stands.
func TestEveryFrameAtEveryState(t *testing.T) {
	for _, p := range places() {
		cells := strings.Fields(p.brings)
		for i, col := range columns() {
			b := at(t, p)
			b.note("%s: %s", p.name, col.name)
			wantCell(b, p, col, cells[i])
		}
	}
}

func wantCell(b *both, p place, col column, cell string) {
	b.t.Helper()
	var want []api.Event
	var waits []api.Frame
	if strings.HasPrefix(col.name, "DATA") {
		waits = append(waits, windowFrame(0, 2)) // whatever becomes of its stream
	}
	code := int64(0)
	for _, digit := range cell[1:] {
		code = 10*code + int64(digit-'0')
	}
	switch cell[0] {
	case 'e':
		want = append(want, col.event(p.id))
		if col.name == "DATA" {
			waits = append(waits, windowFrame(p.id, 2))
		}
	case 's':
		want = append(want, resetEvent(p.id, code))
		waits = append(waits, resetFrame(p.id, code))
	case 'a':
		want = append(want, resetEvent(another, code))
		waits = append(waits, resetFrame(another, code))
	case 'c':
		want = append(want, deadEvent(code))
		waits = append(waits, goAwayFrame(b.m.last(!p.client), code))
	}
	b.wantRecv(col.text(p.id), want...)
	b.wantControl(waits...)
	switch cell[0] {
	case 's':
		b.wantState(p.id, closed)
		b.wantRecv(col.text(p.id)) // what else was under way is ignored
	case 'a':
		b.wantState(another, closed)
	case '-', 'c':
		b.wantState(p.id, p.state)
	}
	if _, dead := b.c.Dead(); dead != (cell[0] == 'c') {
		b.t.Errorf("P21.5: %s: dead is %v", b.history(), dead)
	}
}

// TestTwoFramesAtEveryState: all pairs of frames behind one another, against the
// model.
func TestTwoFramesAtEveryState(t *testing.T) {
	for _, p := range places() {
		for _, first := range columns() {
			for _, second := range columns() {
				b := at(t, p)
				b.recv(first.text(p.id))
				b.recv(second.text(p.id))
				b.control()
				b.recv(first.text(p.id + 2))
				b.control()
			}
		}
	}
}

// TestEveryStateAfterAFrame: where each right frame leads.
func TestEveryStateAfterAFrame(t *testing.T) {
	for _, x := range []struct {
		client bool
		place  string
		frame  string
		state  int
	}{
		{true, "ours, open", "DATA, END", halfRemote}, {true, "ours, open", "HEADERS, END", halfRemote}, {true, "ours, open", "DATA", open}, {true, "ours, open", "RST_STREAM", closed},
		{true, "ours, half closed (local)", "DATA, END", closed}, {true, "ours, half closed (local)", "HEADERS, END", closed}, {true, "ours, half closed (local)", "HEADERS", halfLocal},
		{true, "ours, half closed (remote)", "RST_STREAM", closed}, {true, "theirs, idle", "PUSH_PROMISE of it", reservedRemote}, {true, "theirs, reserved", "HEADERS", halfLocal},
		{true, "theirs, reserved", "HEADERS, END", closed}, {true, "theirs, reserved", "RST_STREAM", closed}, {true, "theirs, half closed", "DATA, END", closed},
		{false, "theirs, idle", "HEADERS", open}, {false, "theirs, idle", "HEADERS, END", halfRemote}, {false, "theirs, open", "HEADERS, END", halfRemote},
		{false, "theirs, half closed (local)", "DATA, END", closed}, {false, "theirs, half closed (remote)", "RST_STREAM", closed}, {false, "ours, reserved", "RST_STREAM", closed},
		{false, "ours, reserved", "WINDOW_UPDATE 1", reservedLocal}, {false, "ours, half closed", "WINDOW_UPDATE 1", halfRemote}, {false, "ours, half closed", "RST_STREAM", closed},
	} {
		all := places()
		p := all[slices.IndexFunc(all, func(p place) bool { return p.name == x.place && p.client == x.client })]
		cols := columns()
		col := cols[slices.IndexFunc(cols, func(c column) bool { return c.name == x.frame })]
		b := at(t, p)
		b.recv(col.text(p.id))
		b.wantState(p.id, x.state)
	}
}

// firsts are frames that may not come first, right and wrong ones, by their names.
func firsts() map[string]string {
	all := map[string]string{
		"an acknowledgement": bytes(ackFrame()), "PING": bytes(pingFrame("12345678")), "PING, Ack": raw(6, 1, 0, "12345678"), "GOAWAY": bytes(goAwayFrame(0, 0)),
		"WINDOW_UPDATE of all": bytes(windowFrame(0, 1)), "unknown of all": raw(200, 0, 0, ""),
		"half of HEADERS": raw(1, 0, 1, requestBlock), "half of PUSH_PROMISE": raw(5, 0, 1, "\x00\x00\x00\x02"), "broken HEADERS": raw(1, 4, 1, "\x80"),
		"DATA of an even stream": raw(0, 0, 2, "x"),
	}
	for _, col := range columns() {
		all[col.name] = col.text(1)
	}
	return all
}

// TestFirstFrame: but for SETTINGS without Ack nothing may come first, not even what
// would bring nothing later.
func TestFirstFrame(t *testing.T) {
	for name, text := range firsts() {
		for _, client := range []bool{true, false} {
			for _, sent := range []bool{true, false} {
				b := newBoth(t, client, standard())
				if sent {
					b.control()
				}
				if !client {
					b.wantRecv(api.Preface)
				}
				b.note("%s", name)
				b.wantRecv(text+bytes(settingsFrame()), deadEvent(protocol))
				if b.c.Met() {
					t.Errorf("P21.1: %s: Met()", b.history())
				}
				text := b.control()
				if want := bytes(goAwayFrame(0, protocol)); !strings.HasSuffix(text, want) || sent && text != want {
					t.Errorf("P21.5: %s: sends %s", b.history(), shownBytes(text))
				}
			}
		}
	}
}

// TestFirstSettings: a right one is taken, one that is refused is a fault by its own
// code, and feed's faults are faults as they are.
func TestFirstSettings(t *testing.T) {
	for _, client := range []bool{true, false} {
		for _, x := range []struct {
			text string
			code int64
		}{
			{bytes(settingsFrame()), 0}, {bytes(settingsFrame(api.Param{ID: 4, Value: top}, api.Param{ID: 99, Value: 1})), 0},
			{bytes(settingsFrame(api.Param{ID: 4, Value: top + 1})), flow}, {bytes(settingsFrame(api.Param{ID: 2, Value: 2})), protocol}, {bytes(settingsFrame(api.Param{ID: 5, Value: 1})), protocol},
			{raw(4, 0, 0, "12345"), frameSize}, {raw(4, 0, 1, ""), protocol}, {raw(4, 1, 0, "123456"), frameSize}, {raw(0, 0, 0, ""), protocol},
			{"\x00\x40\x01\x04\x00\x00\x00\x00\x00", frameSize}, {raw(2, 0, 1, "1234"), protocol}, {raw(2, 0, 0, "12345"), protocol},
		} {
			b := newBoth(t, client, standard())
			b.control()
			if !client {
				b.recv(api.Preface)
			}
			want := []api.Event{deadEvent(x.code)}
			if x.code == 0 {
				want = []api.Event{{Kind: api.EventSettings}}
			}
			b.wantRecv(x.text, want...)
			if b.c.Met() != (x.code == 0) {
				t.Errorf("P21.1: %s: Met() = %v", b.history(), b.c.Met())
			}
		}
	}
}

// TestPreface: a server's first bytes are the preface, and wrong ones are a fault at
// once; a client has none to read.
func TestPreface(t *testing.T) {
	for at := range len(api.Preface) {
		b := newBoth(t, false, standard())
		b.control()
		b.wantRecv(api.Preface[:at])
		b.wantRecv("\x00", deadEvent(protocol))
		b.wantControl(goAwayFrame(0, protocol))
	}
	c := newBoth(t, true, standard())
	c.wantRecv(api.Preface, deadEvent(frameSize))
}

// TestInsideABlock: between the pieces of a block nothing may stand but the next.
func TestInsideABlock(t *testing.T) {
	begins := map[string]string{"HEADERS": raw(1, 0, 1, "\x82"), "HEADERS, END": raw(1, 1, 1, "\x82"), "HEADERS and a piece": raw(1, 0, 1, "") + raw(9, 0, 1, "\x82")}
	for _, p := range []place{clientPlaces()[1], clientPlaces()[7], serverPlaces()[1], serverPlaces()[7]} {
		if p.client {
			begins["PUSH_PROMISE"] = raw(5, 0, 1, "\x00\x00\x00\x02\x82")
		} else {
			delete(begins, "PUSH_PROMISE")
		}
		for name, begin := range begins {
			between := firsts()
			delete(between, "CONTINUATION")
			between["CONTINUATION of another stream"] = raw(9, 4, 3, "")
			between["SETTINGS"] = bytes(settingsFrame())
			for what, text := range between {
				b := at(t, p)
				b.wantRecv(begin)
				b.note("%s inside %s", what, name)
				b.wantRecv(text, deadEvent(protocol))
				b.wantControl(goAwayFrame(b.m.last(!p.client), protocol))
				b.wantState(1, p.state)
			}
		}
	}
}

// TestPiecesOfABlock: a block in pieces is what it is whole, and nothing comes of it
// ahead of its last piece.
func TestPiecesOfABlock(t *testing.T) {
	block := requestBlock + "\x40\x01a\x01b"
	fields := append(request(), api.Field{Name: "a", Value: "b"})
	for cut := range len(block) + 1 {
		for second := cut; second <= len(block); second++ {
			c, s := standing(t, true), standing(t, false)
			c.mustOpen(false)
			s.wantRecv(raw(1, 1, 1, block[:cut]))
			s.wantState(1, idle)
			s.wantRecv(raw(9, 0, 1, block[cut:second]))
			s.wantState(1, idle)
			s.wantRecv(raw(9, 4, 1, block[second:]), headEvent(1, fields, true))
			c.wantRecv(raw(5, 0, 1, "\x00\x00\x00\x02"+block[:cut]) + raw(9, 0, 1, block[cut:second]))
			c.wantState(2, idle)
			c.wantRecv(raw(9, 4, 1, block[second:]), promiseEvent(1, 2, fields))
		}
	}
}

// TestOursMeanwhile: what we do inside a block of theirs counts for what comes of it.
func TestOursMeanwhile(t *testing.T) {
	c := standing(t, true)
	c.mustOpen(true)
	c.wantRecv(raw(1, 4, 1, answerBlock)+raw(1, 0, 1, "\x40\x01a"), headEvent(1, answer(), false))
	c.must(c.reset(1, 8))
	c.wantRecv(raw(9, 4, 1, "\x01b"))
	c.mustOpen(true)
	c.wantRecv(raw(1, 4, 3, "\xbe"), headEvent(3, []api.Field{{Name: "a", Value: "b"}}, false))
	c.wantRecv(raw(5, 0, 3, "\x00\x00\x00\x02\x82"))
	c.must(c.reset(3, 8))
	c.wantRecv(raw(9, 4, 3, "\x86\x84"), resetEvent(2, cancelled))
}
