package client

import (
	"slices"
	"strings"

	"herald/api"
	"herald/field"
	"herald/message"
	"herald/share"
)

const (
	mostWaiting = 256
	opening     = 0          // stands for the first request that waits, where streams are picked from
	lastStream  = api.MaxInt // of ours: once it is born no number is left
	idle        = 0          // layer 10's state of a stream that isn't born
)

// call is a request that isn't answered.
type call struct {
	reply
	number int
	list   []api.Field // its head's; none: it is sent
	body   string      // what of it isn't sent
}

// Ask takes a request, and tells its number.
func (c *Client) Ask(r api.Request) (int, api.Errno) {
	list, e := c.listOf(r)
	if e != api.OK {
		return 0, e
	}
	c.asked++
	// Nothing is kept there but for a GET or a HEAD, nor given to one with a Body.
	response, stream, is := c.cache.Claim(r, c.now)
	switch {
	case is:
		c.answer(api.Answer{Number: c.asked, Cached: true, Stream: stream, Response: response})
	case c.isClosing:
		c.fail(c.asked, api.RefusedStream)
	default:
		q := call{number: c.asked, list: copied(list), body: strings.Clone(r.Body)}
		q.method = strings.Clone(r.Method)
		c.waiting = append(c.waiting, q)
	}
	return c.asked, api.OK
}

// Cancel gives a request up that isn't answered.
func (c *Client) Cancel(number int) api.Errno {
	isIt := func(q call) bool { return q.number == number }
	if i := slices.IndexFunc(c.waiting, isIt); i >= 0 {
		c.waiting = slices.Delete(c.waiting, i, i+1)
		c.fail(number, api.Cancel)
		return api.OK
	}
	for stream, q := range c.flying {
		if isIt(*q) {
			c.reset(stream, api.Cancel)
			return api.OK
		}
	}
	return api.ErrNone
}

// Step is the bytes of all control that waits, and of one unit that is picked among
// those that are ready.
func (c *Client) Step(pick int) string {
	text := c.conn.Control()
	mayOpen := c.mayOpen()
	if mayOpen {
		c.refuseLong()
	}
	place, is := share.Pick(c.ready(mayOpen), pick)
	switch {
	case !is:
		return text
	case place == opening:
		return text + c.open()
	}
	return text + c.sendPiece(place)
}

// listOf is a request's list, if it can be asked.
func (c *Client) listOf(r api.Request) ([]api.Field, api.Errno) {
	list, e := field.WriteRequest(r)
	switch {
	case e != api.OK:
		return nil, e
	case !isWhole(list, r.Body):
		return nil, api.ErrBody
	case field.Size(list) > api.MaxList:
		return nil, api.ErrList
	case len(c.waiting) >= mostWaiting:
		return nil, api.ErrFull
	}
	return list, api.OK
}

// isWhole tells whether a request's list and its body make a message.
func isWhole(list []api.Field, body string) bool {
	m, e := message.New(true, "", list)
	return e == api.OK && m.Data(body, true) == api.OK
}

// fail answers a request by a code.
func (c *Client) fail(number int, code int64) { c.answer(api.Answer{Number: number, Code: code}) }

// mayOpen tells whether the conn would open one more stream.
func (c *Client) mayOpen() bool {
	return c.conn.Met() && int64(c.conn.Opened(true)) < c.conn.Theirs().Streams && c.conn.State(lastStream) == idle
}

// refuseLong answers those that wait at the front whose lists the server doesn't take.
func (c *Client) refuseLong() {
	for len(c.waiting) > 0 && field.Size(c.waiting[0].list) > c.conn.Theirs().List {
		c.fail(c.dequeue().number, api.RefusedStream)
	}
}

// dequeue takes out the first request that waits.
func (c *Client) dequeue() call {
	q := c.waiting[0]
	c.waiting = slices.Delete(c.waiting, 0, 1)
	return q
}

// ready is what a unit can be sent of: the opening, then streams by number.
func (c *Client) ready(mayOpen bool) []int64 {
	var ready []int64
	if mayOpen && len(c.waiting) > 0 {
		ready = append(ready, opening)
	}
	for _, stream := range streamsOf(c.flying) {
		if c.flying[stream].body != "" && c.conn.Window(0) > 0 && c.conn.Window(stream) > 0 {
			ready = append(ready, stream)
		}
	}
	return ready
}

// open is the bytes of the head of the first request that waits. There is no error
// to pass on: the conn was asked whether it would, and the list isn't long.
func (c *Client) open() string {
	q := c.dequeue()
	stream, text, _ := c.conn.Open(q.list, q.body == "")
	q.list = nil
	c.flying[stream] = &q
	return text
}

// sendPiece is the bytes of the next piece of a body. There is no error to pass on:
// there is room for a byte.
func (c *Client) sendPiece(stream int64) string {
	q := c.flying[stream]
	n, text, _ := c.conn.Data(stream, q.body, true)
	if n == len(q.body) {
		q.body = "" // what is cut off at its end would keep all of it
		return text
	}
	q.body = q.body[n:]
	return text
}

// copied is the list in texts of its own.
func copied(l []api.Field) []api.Field {
	own := slices.Clone(l)
	for i, f := range own {
		own[i].Name, own[i].Value = strings.Clone(f.Name), strings.Clone(f.Value)
	}
	return own
}
