package conn

import (
	"strings"

	"herald/api"
	"herald/block"
	"herald/pack"
	"herald/setting"
	"herald/state"
	"herald/window"
)

const (
	mostUnacked  = 64        // SETTINGS of ours
	greatestCode = 1<<32 - 1 // that four bytes hold
)

// Open sends a request on our next stream, and tells its number.
func (c *Conn) Open(fields []api.Field, end bool) (int64, string, api.Errno) {
	stream, is := c.streams.Next()
	switch {
	case c.isDead():
		return 0, "", api.ErrDead
	case !c.client, !c.met:
		return 0, "", api.ErrState
	case c.isFull(), !is:
		return 0, "", api.ErrFull
	case c.isLong(fields):
		return 0, "", api.ErrList
	}
	return stream, c.sendHeaders(stream, fields, end), api.OK
}

// Head sends a response.
func (c *Conn) Head(stream int64, fields []api.Field, end bool) (string, api.Errno) {
	switch {
	case c.isDead():
		return "", api.ErrDead
	case c.client, !c.maySend(stream, state.Headers):
		return "", api.ErrState
	case c.streams.State(stream) == state.ReservedLocal && c.isFull():
		return "", api.ErrFull
	case c.isLong(fields):
		return "", api.ErrList
	}
	return c.sendHeaders(stream, fields, end), api.OK
}

// Promise sends a promise on a stream, and tells the promised one.
func (c *Conn) Promise(stream int64, fields []api.Field) (int64, string, api.Errno) {
	promised, is := c.streams.Next()
	switch {
	case c.isDead():
		return 0, "", api.ErrDead
	case c.client, !c.mayPromise(stream):
		return 0, "", api.ErrState
	case c.isLong(fields):
		return 0, "", api.ErrList
	case !is:
		return 0, "", api.ErrFull
	}
	c.do(promised, state.Event{Kind: state.Promise})
	head := api.Frame{Type: api.FramePromise, Stream: stream, Last: promised}
	return promised, c.Control() + c.sendBlock(head, fields), api.OK
}

// Data sends as much of a text as there is room for in one frame, and tells how
// much.
func (c *Conn) Data(stream int64, text string, end bool) (int, string, api.Errno) {
	n := window.Room(c.Window(0), c.Window(stream), len(text), int(c.theirs.Frame))
	switch {
	case c.isDead():
		return 0, "", api.ErrDead
	case text == "" && !end:
		return 0, "", api.ErrArg
	case !c.maySend(stream, state.Data):
		return 0, "", api.ErrState
	case text != "" && n == 0:
		return 0, "", api.ErrFull
	}
	f := api.Frame{Type: api.FrameData, Stream: stream, Data: strings.Clone(text[:n])}
	last := end && n == len(text)
	if last {
		f.Flags = api.EndStream
	}
	c.left.Take(int64(n))
	c.lefts[stream].Take(int64(n))
	c.do(stream, state.Event{Kind: withEnd(state.Data, last)})
	return n, c.Control() + c.send([]api.Frame{f}), api.OK
}

// Reset lets RST_STREAM wait, and closes the stream.
func (c *Conn) Reset(stream, code int64) api.Errno {
	switch {
	case c.isDead():
		return api.ErrDead
	case code < 0, code > greatestCode:
		return api.ErrArg
	case !c.cut(stream, code):
		return api.ErrState
	}
	return api.OK
}

// Settings lets SETTINGS wait, by which the set is announced.
func (c *Conn) Settings(set api.Set) api.Errno {
	switch {
	case c.isDead():
		return api.ErrDead
	case !setting.Fits(set):
		return api.ErrArg
	case c.unacked() >= mostUnacked:
		return api.ErrFull
	}
	c.announce(set)
	return api.OK
}

// sendHeaders is the bytes of HEADERS that a stream takes, behind all that waits.
func (c *Conn) sendHeaders(stream int64, fields []api.Field, end bool) string {
	c.do(stream, state.Event{Kind: withEnd(state.Headers, end)})
	head := api.Frame{Type: api.FrameHeaders, Stream: stream}
	if end {
		head.Flags = api.EndStream
	}
	return c.Control() + c.sendBlock(head, fields)
}

// sendBlock has no error to pass on: a list that isn't long has neither a long
// text nor a long block, and theirs Frame is a size that may be.
func (c *Conn) sendBlock(head api.Frame, fields []api.Field) string {
	text, _ := c.encoder.Encode(fields)
	frames, _ := block.Split(head, text, c.theirs.Frame)
	return c.send(frames)
}

// isFull tells whether the peer lets us have no more streams.
func (c *Conn) isFull() bool { return int64(c.streams.Count(true)) >= c.theirs.Streams }

// isLong tells whether a list is too long for the peer, or for anyone.
func (c *Conn) isLong(fields []api.Field) bool {
	return pack.Size(fields) > min(c.theirs.List, api.MaxList)
}

// maySend tells whether we may send HEADERS or DATA on a stream that there is: a
// client's HEADERS bear one, but those that are asked for here bear none.
func (c *Conn) maySend(stream int64, kind int) bool {
	s := c.streams.State(stream)
	_, v := state.Next(s, state.Event{Kind: kind})
	return s != state.Idle && v.Kind == state.Fine
}

func (c *Conn) mayPromise(stream int64) bool {
	s := c.streams.State(stream)
	return isOdd(stream) && (s == state.Open || s == state.HalfRemote) && c.theirs.Push != 0
}

// unacked is how many SETTINGS of ours the peer has still to acknowledge, those
// among them that it can't have got yet.
func (c *Conn) unacked() int {
	n := c.book.Waiting()
	for _, f := range c.waiting {
		if isAnnouncement(f) {
			n++
		}
	}
	return n
}
