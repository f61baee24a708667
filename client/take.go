package client

import (
	"herald/api"
	"herald/field"
	"herald/message"
)

const (
	lengthName = "content-length"
	noLength   = "0"
)

// promise is a request that the server has promised to answer.
type promise struct {
	reply
	request api.Request
	came    int64 // at this tick
}

// reply is a response as it comes.
type reply struct {
	method  string           // of its request
	message *message.Message // none ahead of its head
}

// begin tells whether this can be the reply's head.
func (r *reply) begin(l []api.Field) bool {
	if r.message != nil {
		return false
	}
	m, e := message.New(false, r.method, l)
	r.message = m
	return e == api.OK
}

// extend tells what is wrong with a piece of the reply's body.
func (r *reply) extend(text string, end bool) int64 {
	if r.message == nil {
		return api.ProtocolError
	}
	switch r.message.Data(text, end) {
	case api.OK:
		return api.NoError
	case api.ErrLong:
		return api.EnhanceYourCalm
	}
	return api.ProtocolError
}

// take does what an event of the conn tells.
func (c *Client) take(e api.Event) {
	switch e.Kind {
	case api.EventHead:
		c.takeHead(e)
	case api.EventData:
		c.takePiece(e.Stream, e.Data, e.End)
	case api.EventPromise:
		c.takePromise(e.Promised, e.Fields)
	case api.EventReset:
		c.lose(e.Stream, e.Code)
	case api.EventGoAway:
		c.takeGoAway(e.Stream)
	case api.EventDead:
		c.takeDeath(e.Code)
	}
}

// replyOn is what comes on a stream; nil: nothing that anyone waits for.
func (c *Client) replyOn(stream int64) *reply {
	if q, is := c.flying[stream]; is {
		return &q.reply
	}
	if p, is := c.promises[stream]; is {
		return &p.reply
	}
	return nil
}

func (c *Client) takeHead(e api.Event) {
	r := c.replyOn(e.Stream)
	switch {
	case r == nil:
	case !r.begin(e.Fields):
		c.reset(e.Stream, api.ProtocolError)
	case e.End:
		c.takePiece(e.Stream, "", true)
	}
}

func (c *Client) takePiece(stream int64, text string, end bool) {
	r := c.replyOn(stream)
	if r == nil {
		return
	}
	if code := r.extend(text, end); code != api.NoError {
		c.reset(stream, code)
		return
	}
	if r.message.Whole() {
		c.finish(stream, r.message.Response())
	}
}

// finish is for a stream whose response is whole.
func (c *Client) finish(stream int64, response api.Response) {
	if q, is := c.flying[stream]; is {
		delete(c.flying, stream)
		c.answer(api.Answer{Number: q.number, Stream: stream, Response: response})
		return
	}
	p := c.promises[stream]
	delete(c.promises, stream)
	c.cache.Store(p.request, response, stream, c.now)
}

func (c *Client) takePromise(stream int64, l []api.Field) {
	r, code := c.judge(l)
	if code != api.NoError {
		c.conn.Reset(stream, code)
		return
	}
	c.promises[stream] = &promise{reply: reply{method: r.Method}, request: r, came: c.now}
}

// judge is the request that a list promises, and what is wrong with it.
func (c *Client) judge(l []api.Field) (api.Request, int64) {
	m, e := message.New(true, "", l)
	if e != api.OK {
		return api.Request{}, api.ProtocolError
	}
	r := m.Request()
	switch {
	case !isPushable(r), !c.origins.Has(r.Scheme, r.Authority):
		return api.Request{}, api.ProtocolError
	case int64(len(c.promises)) >= c.mostPending:
		return api.Request{}, api.RefusedStream
	case c.cache.Holds(r, c.now):
		return api.Request{}, api.Cancel
	}
	return r, api.NoError
}

// isPushable tells whether a request changes nothing, and has no body.
func isPushable(r api.Request) bool {
	for _, length := range field.Values(r.Fields, lengthName) {
		if length != noLength {
			return false
		}
	}
	return r.Method == "GET" || r.Method == "HEAD"
}

// takeGoAway gives up what the server won't look at.
func (c *Client) takeGoAway(last int64) {
	for _, stream := range streamsOf(c.flying) {
		if stream > last {
			c.lose(stream, api.RefusedStream)
		}
	}
	c.refuseAll()
}

func (c *Client) takeDeath(code int64) {
	for _, stream := range streamsOf(c.flying) {
		c.lose(stream, code)
	}
	c.refuseAll()
	c.flying, c.promises = nil, nil // nothing comes any more that would be laid there
}

// refuseAll answers those that wait: they, and all later ones, will never be sent.
func (c *Client) refuseAll() {
	c.isClosing = true
	for _, q := range c.waiting {
		c.fail(q.number, api.RefusedStream)
	}
	c.waiting = nil
}

// reset is for a stream of which nothing more is taken.
func (c *Client) reset(stream, code int64) {
	c.conn.Reset(stream, code) // refused where the stream is closed: then there is nothing to send
	c.lose(stream, code)
}

// lose gives up what was to come on a stream.
func (c *Client) lose(stream, code int64) {
	if q, is := c.flying[stream]; is {
		delete(c.flying, stream)
		c.fail(q.number, code)
	}
	delete(c.promises, stream)
}
