package conn

import "herald/state"

// Bear lets a stream of ours be born as if all below it had been, which no test has
// the time for.
func (c *Conn) Bear(stream int64) {
	kind := state.Promise
	if c.client {
		kind = state.Headers
	}
	c.do(stream, state.Event{Kind: kind})
}
