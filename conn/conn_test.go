package conn_test

import (
	"testing"

	"herald/api"
	"herald/conn"
	"herald/lists"
)

// pairOf are a client and a server that have told each other nothing yet.
func pairOf(t *testing.T) (*both, *both) {
	t.Helper()
	return newBoth(t, true, standard()), newBoth(t, false, standard())
}

// afterOne are the ends of example 1, and all that the client has sent.
func afterOne(t *testing.T) (*both, *both, string) {
	t.Helper()
	c, s := pairOf(t)
	begin := c.control()
	if begin != "PRI * HTTP/2.0\r\n\r\nSM\r\n\r\n\x00\x00\x00\x04\x00\x00\x00\x00\x00" || len(begin) != 24+9 {
		t.Errorf("P21.1: a client begins with %s", shownBytes(begin))
	}
	c.wantControl()
	_, _, e := c.open(request(), true)
	c.want(e, api.ErrState)
	text := s.control()
	if text != "\x00\x00\x00\x04\x00\x00\x00\x00\x00" {
		t.Errorf("P21.1: a server begins with %s", shownBytes(text))
	}
	c.wantRecv(text, api.Event{Kind: api.EventSettings})
	if !c.c.Waits() {
		t.Error("P21.1: no acknowledgement waits")
	}
	ack := c.control()
	if ack != "\x00\x00\x00\x04\x01\x00\x00\x00\x00" {
		t.Errorf("P21.1: the acknowledgement is %s", shownBytes(ack))
	}
	return c, s, begin + ack
}

func TestExampleOne(t *testing.T) { afterOne(t) }

func afterTwo(t *testing.T) (*both, *both) {
	t.Helper()
	c, s, sent := afterOne(t)
	id, text, e := c.open(request(), true)
	if id != 1 || e != api.OK || text != "\x00\x00\x03\x01\x05\x00\x00\x00\x01\x82\x86\x84" {
		t.Errorf("P21.1: Open: %d, %s, %d", id, shownBytes(text), e)
	}
	s.wantRecv(sent+text, api.Event{Kind: api.EventSettings}, api.Event{Kind: api.EventAck}, headEvent(1, request(), true))
	s.wantState(1, halfRemote)
	return c, s
}

func TestExampleTwo(t *testing.T) { afterTwo(t) }

func afterThree(t *testing.T) (*both, *both) {
	t.Helper()
	c, s := afterTwo(t)
	id, text, e := s.promise(1, request())
	if id != 2 || e != api.OK || text != "\x00\x00\x00\x04\x01\x00\x00\x00\x00"+"\x00\x00\x07\x05\x04\x00\x00\x00\x01\x00\x00\x00\x02\x82\x86\x84" {
		t.Errorf("P21.1: Promise: %d, %s, %d", id, shownBytes(text), e)
	}
	head, e := s.head(2, answer(), false)
	s.must(e)
	n, data, e := s.data(2, "ab", true)
	if n != 2 || e != api.OK {
		t.Errorf("P21.1: Data: %d, %d", n, e)
	}
	c.wantRecv(text+head+data, api.Event{Kind: api.EventAck}, promiseEvent(1, 2, request()), headEvent(2, answer(), false), dataEvent(2, "ab", true))
	c.wantControl(windowFrame(0, 2))
	return c, s
}

func TestExampleThree(t *testing.T) { afterThree(t) }

func TestExampleFour(t *testing.T) {
	c, _ := afterThree(t)
	c.wantRecv("\x00\x00\x00\x04\x01\x00\x00\x00\x00", deadEvent(api.ProtocolError))
	c.wantControl(goAwayFrame(2, api.ProtocolError))
	c.wantControl()
	_, _, e := c.open(request(), true)
	c.want(e, api.ErrDead)
}

func TestExampleFive(t *testing.T) {
	_, s := afterTwo(t)
	s.wantRecv(bytes(dataFrame(7, "x", false)), deadEvent(api.ProtocolError))
	c, s := afterTwo(t)
	_, text, _ := s.promise(1, request())
	c.recv(text)
	c.must(c.reset(2, 8))
	late := lists.Of(":status", "200", "late", "yes")
	text, _ = s.head(2, late, true)
	c.wantRecv(text)
	text, _ = s.head(1, late, true)
	c.wantRecv(text, headEvent(1, late, true))
}

// TestNumbers: errors, codes, states and events are those that the document has.
func TestNumbers(t *testing.T) {
	if api.ErrArg != argError || api.ErrFull != fullError || api.ErrState != stateError || api.ErrBlock != blockError || api.ErrList != listError || api.ErrDead != deadError {
		t.Error("an error has another number")
	}
	if api.ProtocolError != protocol || api.FlowControlError != flow || api.StreamClosed != streamOver || api.FrameSizeError != frameSize || api.RefusedStream != refused ||
		api.Cancel != cancelled || api.CompressionError != compression || api.EnhanceYourCalm != calm {
		t.Error("a code has another number")
	}
	if api.EventHead != 1 || api.EventData != 2 || api.EventPromise != 3 || api.EventReset != 4 || api.EventSettings != 5 || api.EventAck != 6 || api.EventGoAway != 7 || api.EventDead != 8 {
		t.Error("an event has another number")
	}
}

// edgeSets are the default with one field at an edge of what fits.
func edgeSets() (fit, wrong []api.Set) {
	for id, edges := range [][]int64{
		1: {0, 1, 4095, 4097, 65535, 65536}, 2: {0}, 3: {0, 1, top - 1}, 4: {0, 1, 65534, 65536, top}, 5: {16385, 65535, 65536}, 6: {1024, 1025, 65536, top - 1},
	} {
		for _, v := range edges {
			set := standard()
			*fieldsOf(&set)[id] = v
			fit = append(fit, set)
		}
	}
	for id, edges := range [][]int64{1: {65537, top, 1 << 32}, 2: {2, 3}, 3: {top + 1, 1 << 32}, 4: {top + 1, 1 << 32}, 5: {0, 1, 16383, 65537, 1 << 24}, 6: {0, 1, 1023, top + 1}} {
		if id == 0 {
			continue
		}
		for _, v := range append(edges, -1, least, greatest) {
			set := standard()
			*fieldsOf(&set)[id] = v
			wrong = append(wrong, set)
		}
	}
	return fit, append(wrong, api.Set{})
}

// TestNewThatFits: what begins a conn, of both sides, and what it is till the peer
// says something.
func TestNewThatFits(t *testing.T) {
	fit, _ := edgeSets()
	least := api.Set{Frame: 16384, List: 1024}
	most := api.Set{Table: 65536, Push: 1, Streams: top, Window: top, Frame: 65536, List: top}
	for _, set := range append(fit, standard(), least, most) {
		for _, client := range []bool{true, false} {
			b := newBoth(t, client, set)
			if b.c.Ours() != standard() || b.c.Theirs() != standard() || b.c.Met() || !b.c.Waits() || len(b.c.Log()) != 0 || b.c.Window(0) != 65535 {
				t.Errorf("P21.1: New(%v, %v): %v, %v, %v, %v", client, set, b.c.Ours(), b.c.Theirs(), b.c.Met(), b.c.Waits())
			}
			text := b.control()
			b.control()
			if !client {
				b.recv(api.Preface)
			}
			b.wantRecv(bytes(settingsFrame(), ackFrame()), api.Event{Kind: api.EventSettings}, api.Event{Kind: api.EventAck})
			want := set
			if !client {
				want.Push = 1 // a server never tells it
			}
			if b.c.Ours() != want {
				t.Errorf("P21.1: New(%v, %v), acknowledged: Ours() = %v", client, set, b.c.Ours())
			}
			other := newBoth(t, !client, standard())
			other.control()
			other.recv(text)
			if other.c.Theirs() != want {
				t.Errorf("P21.1: New(%v, %v): the other end hears %v", client, set, other.c.Theirs())
			}
		}
	}
}

// TestNewParams: SETTINGS tell just what isn't the default.
func TestNewParams(t *testing.T) {
	set := api.Set{Table: 0, Push: 0, Streams: 100, Window: 65535, Frame: 65536, List: 1024}
	c := newBoth(t, true, set)
	all := []api.Param{{ID: 1, Value: 0}, {ID: 2, Value: 0}, {ID: 3, Value: 100}, {ID: 5, Value: 65536}, {ID: 6, Value: 1024}}
	if text := c.control(); text != api.Preface+bytes(settingsFrame(all...)) {
		t.Errorf("P21.1: a client begins with %s", shownBytes(text))
	}
	s := newBoth(t, false, set)
	s.wantControl(settingsFrame(all[0], all[2], all[3], all[4]))
}

func TestNewThatDoesNotFit(t *testing.T) {
	_, wrong := edgeSets()
	for _, set := range wrong {
		for _, client := range []bool{true, false} {
			if c, e := conn.New(client, set); c != nil || e != api.ErrArg {
				t.Errorf("P21.1: New(%v, %v): %v, %d, want nil and ErrArg", client, set, c, e)
			}
			if _, e := newModel(client, set); e != argError {
				t.Errorf("the model takes %v", set)
			}
		}
	}
}

// TestNothingCame: a conn that was told nothing says nothing.
func TestNothingCame(t *testing.T) {
	for _, client := range []bool{true, false} {
		b := newBoth(t, client, standard())
		for range 2 {
			b.wantRecv("")
			b.push("")
			if events, is := b.next(); is || len(events) != 0 {
				t.Errorf("P21.1: Next of nothing: %s, %v", shownEvents(events), is)
			}
			for _, id := range []int64{0, 1, 2, 3, -1, least, greatest} {
				b.head(id, answer(), false)
				b.promise(id, request())
				b.data(id, "x", true)
				b.data(id, "", true)
				b.reset(id, 0)
			}
			b.open(request(), true)
		}
	}
}
