package conn_test

import (
	"strings"
	"testing"

	"herald/api"
)

// death is bytes that a standing end dies of, and the code.
type death struct {
	name, text string
	code       int64
}

func deaths() []death {
	return []death{
		{"too long a frame", "\xff\xff\xff\x00\x00\x00\x00\x00\x01", frameSize},
		{"DATA of stream 0", raw(0, 0, 0, "x"), protocol},
		{"DATA of an idle stream", raw(0, 0, 99, "x"), protocol},
		{"a broken block", raw(1, 4, 99, "\x80"), compression},
		{"CONTINUATION without a block", raw(9, 4, 1, ""), protocol},
		{"PING inside a block", raw(1, 0, 99, "") + bytes(pingFrame("12345678")), protocol},
		{"PING of seven bytes", raw(6, 0, 0, "1234567"), frameSize},
		{"an Ack too many", bytes(ackFrame()), protocol},
		{"a wrong Window", bytes(settingsFrame(param(4, 1<<31))), flow},
		{"a wrong Push", bytes(settingsFrame(param(2, 2))), protocol},
		{"WINDOW_UPDATE of 0", bytes(windowFrame(0, 0)), protocol},
		{"WINDOW_UPDATE of too much", bytes(windowFrame(0, top)), flow},
		{"RST_STREAM of an idle one", bytes(resetFrame(99, 0)), protocol},
		{"short PRIORITY of an idle one", raw(2, 0, 99, "1"), frameSize},
		{"too long a block", raw(1, 0, 99, long(16384)) + strings.Repeat(raw(9, 0, 99, long(16384)), 8), calm},
	}
}

// TestDead: from its first fault on a conn reads nothing, changes nothing and sends
// one GOAWAY, behind what waited already.
func TestDead(t *testing.T) {
	for _, death := range deaths() {
		for _, client := range []bool{true, false} {
			for _, waits := range []bool{false, true} {
				b := sender(t, client)
				last := b.m.last(!client)
				var want []api.Frame
				if waits {
					b.must(b.settings(standard()))
					b.must(b.reset(1, 3))
					b.recv(bytes(pingFrame("12345678")))
					want = append(want, settingsFrame(), resetFrame(1, 3), api.Frame{Type: 6, Flags: 1, Data: "12345678"})
				}
				if death.name == "DATA of an idle stream" {
					want = append(want, windowFrame(0, 1))
				}
				b.note("%s", death.name)
				b.wantRecv(death.text+bytes(pingFrame("not read"), settingsFrame(), goAwayFrame(0, 0)), deadEvent(death.code))
				wantDead(b, death.code)
				b.wantControl(append(want, goAwayFrame(last, death.code))...)
				wantDead(b, death.code)
				b.wantControl()
				b.wantControl()
			}
		}
	}
}

// wantDead asks a dead conn for everything.
func wantDead(b *both, code int64) {
	b.t.Helper()
	if got, dead := b.c.Dead(); !dead || got != code {
		b.t.Errorf("P21.5: %s: Dead() = %d, %v", b.history(), got, dead)
	}
	waits, log := b.c.Waits(), len(b.c.Log())
	_, wrong := edgeSets()
	_, _, e := b.open(request(), true)
	b.want(e, api.ErrDead)
	_, _, e = b.open(listOf(65537), true)
	b.want(e, api.ErrDead)
	for _, id := range []int64{0, 1, 2, 3, -1, greatest} {
		_, e = b.head(id, listOf(65537), false)
		b.want(e, api.ErrDead)
		_, _, e = b.promise(id, request())
		b.want(e, api.ErrDead)
		_, _, e = b.data(id, "x", true)
		b.want(e, api.ErrDead)
		_, _, e = b.data(id, "", false)
		b.want(e, api.ErrDead)
		b.want(b.reset(id, 0), api.ErrDead)
		b.want(b.reset(id, -1), api.ErrDead)
	}
	b.want(b.settings(standard()), api.ErrDead)
	b.want(b.settings(wrong[0]), api.ErrDead)
	b.push(bytes(settingsFrame()))
	if events, is := b.next(); is || len(events) != 0 {
		b.t.Errorf("P21.5: %s: Next() = %s, %v", b.history(), shownEvents(events), is)
	}
	b.wantRecv(bytes(settingsFrame(), ackFrame(), headersFrame(5, requestBlock, true)))
	b.wantRecv("\xff\xff\xff\xff\xff\xff\xff\xff\xff\xff")
	if b.c.Waits() != waits || len(b.c.Log()) != log {
		b.t.Errorf("P21.5: %s: a dead conn changed", b.history())
	}
}

// TestDeadOfTheBeginning: a conn that dies ahead of its first Control sends its
// beginning, and then GOAWAY.
func TestDeadOfTheBeginning(t *testing.T) {
	c := newBoth(t, true, standard())
	c.wantRecv(bytes(ackFrame()), deadEvent(protocol))
	wantDead(c, protocol)
	if text := c.control(); text != api.Preface+bytes(settingsFrame(), goAwayFrame(0, protocol)) {
		t.Errorf("P21.5: %s: %s", c.history(), shownBytes(text))
	}
	s := newBoth(t, false, standard())
	s.wantRecv("GET / HTTP/1.1\r\n", deadEvent(protocol))
	wantDead(s, protocol)
	s.wantControl(settingsFrame(), goAwayFrame(0, protocol))
}

// TestLastOfGoAway: the greatest of the peer's streams that was born, whatever became
// of it, and none of ours.
func TestLastOfGoAway(t *testing.T) {
	s := standing(t, false)
	s.recv(bytes(headersFrame(1, requestBlock, true), headersFrame(9, requestBlock, true), resetFrame(9, 0)))
	for range 10 {
		s.mustPromise(1)
	}
	s.wantRecv(raw(9, 4, 1, ""), deadEvent(protocol))
	s.wantControl(goAwayFrame(9, protocol))
	set := standard()
	set.Streams = 0
	s = standingWith(t, false, set)
	s.wantRecv(bytes(headersFrame(5, requestBlock, true)), resetEvent(5, refused))
	s.wantRecv(raw(9, 4, 1, ""), deadEvent(protocol))
	s.wantControl(resetFrame(5, refused), goAwayFrame(5, protocol))
	c := standing(t, true)
	for range 10 {
		c.mustOpen(false)
	}
	c.recv(bytes(promiseFrame(1, 6, requestBlock)))
	c.must(c.reset(6, 0))
	c.wantRecv(raw(9, 4, 1, ""), deadEvent(protocol))
	c.wantControl(resetFrame(6, 0), goAwayFrame(6, protocol))
}

// TestDeadByNext: one thing at a time, and none behind the fault.
func TestDeadByNext(t *testing.T) {
	b := standing(t, true)
	b.push(bytes(pingFrame("12345678"), settingsFrame()) + raw(9, 0, 1, "") + bytes(settingsFrame()))
	for i, want := range [][]api.Event{nil, {settled()}, {deadEvent(protocol)}} {
		if events, is := b.next(); !is || !sameEvents(events, want) {
			t.Errorf("P21.1: thing %d: %s, %v", i, shownEvents(events), is)
		}
	}
	for range 2 {
		if events, is := b.next(); is || len(events) != 0 {
			t.Errorf("P21.5: behind the fault: %s, %v", shownEvents(events), is)
		}
	}
}
